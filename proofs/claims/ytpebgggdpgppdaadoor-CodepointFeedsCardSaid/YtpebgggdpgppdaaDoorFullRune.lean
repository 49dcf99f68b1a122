/-
  Helper: the walk of utf8.FullRuneInString, over the two tables that it reads.
-/
import Derived.Test.YtpebgggdpgppdaaDoorBase
import Derived.Test.YtpebgggdpgppdaaDoorFullPlain
import Derived.Test.YtpebgggdpgppdaaDoorProg
import Derived.WalkKit
import Derived.BigQuiet
import Derived.Deep.QuietTactic
import Derived.Lib.Hide
namespace Go.Proofs.YtpebgggdpgppdaaDoor
open Go.RowKit
set_option linter.unusedVariables false


theorem drew_below (w : World) (n : Nat) : Below w.heap.size w (w.drewN n) := ⟨rfl, rfl, rfl, Nat.le_refl _, fun _ _ => rfl⟩
theorem endBelow (w : World) (o : Obj) (n : Nat) : Below w.heap.size w ((w.alloc o).drewN n) := ((Below.refl _ w).alloc (Nat.le_refl _) o).trans ((drew_below _ n).mono (by simp))

set_option maxRecDepth 100000 in
set_option maxHeartbeats 2000000 in
theorem frune_240_ge (s : ByteArray) (w : World) (hs : s.size ≤ 1000000) (h0 : 0 < s.size) (hm : 0 ≤ s.size) (hx : w.cell? ⟨0, s[0].toNat, none⟩ = some (.int .u8 240)) :
    Calls Tryd.prog 14 #[.string s] w fun e w' => e = .returned (.bool true) ∧ Below w.heap.size w w' := by
  have hne : ((s.size : Int) == 0) = false := by rw [beq_eq_false_iff_ne]; omega
  have hlt := s[0].toNat_lt
  go_enter Tryd.func14, Tryd.ntmps14
  go_wp2
  go_ret
  exact ⟨rfl, Below.refl _ _⟩

set_option maxRecDepth 100000 in
set_option maxHeartbeats 2000000 in
theorem frune_241_ge (s : ByteArray) (w : World) (hs : s.size ≤ 1000000) (h0 : 0 < s.size) (hm : 1 ≤ s.size) (hx : w.cell? ⟨0, s[0].toNat, none⟩ = some (.int .u8 241)) :
    Calls Tryd.prog 14 #[.string s] w fun e w' => e = .returned (.bool true) ∧ Below w.heap.size w w' := by
  have hne : ((s.size : Int) == 0) = false := by rw [beq_eq_false_iff_ne]; omega
  have hlt := s[0].toNat_lt
  go_enter Tryd.func14, Tryd.ntmps14
  go_wp2
  go_ret
  exact ⟨rfl, Below.refl _ _⟩

set_option maxRecDepth 100000 in
set_option maxHeartbeats 2000000 in
theorem frune_2_ge (s : ByteArray) (w : World) (hs : s.size ≤ 1000000) (h0 : 0 < s.size) (hm : 2 ≤ s.size) (hx : w.cell? ⟨0, s[0].toNat, none⟩ = some (.int .u8 2)) :
    Calls Tryd.prog 14 #[.string s] w fun e w' => e = .returned (.bool true) ∧ Below w.heap.size w w' := by
  have hne : ((s.size : Int) == 0) = false := by rw [beq_eq_false_iff_ne]; omega
  have hlt := s[0].toNat_lt
  go_enter Tryd.func14, Tryd.ntmps14
  go_wp2
  go_ret
  exact ⟨rfl, Below.refl _ _⟩

set_option maxRecDepth 100000 in
set_option maxHeartbeats 2000000 in
theorem frune_2_n1 (s : ByteArray) (w : World) (hs : s.size ≤ 1000000) (h0 : s.size = 1) (hx : w.cell? ⟨0, (s[0]'(by omega)).toNat, none⟩ = some (.int .u8 2)) (hl : w.cell? ⟨1, 0, none⟩ = some (.int .u8 128)) (hh : w.cell? ⟨1, 1, none⟩ = some (.int .u8 191)) :
    Calls Tryd.prog 14 #[.string s] w fun e w' => e = .returned (.bool false) ∧ Below w.heap.size w w' := by
  have hne : ((s.size : Int) == 0) = false := by rw [beq_eq_false_iff_ne]; omega
  have hlt := (s[0]'(by omega)).toNat_lt
  go_enter Tryd.func14, Tryd.ntmps14
  go_wp2
  go_quiet (fail)
  go_wp2
  go_ret
  exact ⟨rfl, endBelow _ _ _⟩

set_option maxRecDepth 100000 in
set_option maxHeartbeats 2000000 in
theorem frune_19_ge (s : ByteArray) (w : World) (hs : s.size ≤ 1000000) (h0 : 0 < s.size) (hm : 3 ≤ s.size) (hx : w.cell? ⟨0, s[0].toNat, none⟩ = some (.int .u8 19)) :
    Calls Tryd.prog 14 #[.string s] w fun e w' => e = .returned (.bool true) ∧ Below w.heap.size w w' := by
  have hne : ((s.size : Int) == 0) = false := by rw [beq_eq_false_iff_ne]; omega
  have hlt := s[0].toNat_lt
  go_enter Tryd.func14, Tryd.ntmps14
  go_wp2
  go_ret
  exact ⟨rfl, Below.refl _ _⟩

set_option maxRecDepth 100000 in
set_option maxHeartbeats 2000000 in
theorem frune_19_n1 (s : ByteArray) (w : World) (hs : s.size ≤ 1000000) (h0 : s.size = 1) (hx : w.cell? ⟨0, (s[0]'(by omega)).toNat, none⟩ = some (.int .u8 19)) (hl : w.cell? ⟨1, 2, none⟩ = some (.int .u8 160)) (hh : w.cell? ⟨1, 3, none⟩ = some (.int .u8 191)) :
    Calls Tryd.prog 14 #[.string s] w fun e w' => e = .returned (.bool false) ∧ Below w.heap.size w w' := by
  have hne : ((s.size : Int) == 0) = false := by rw [beq_eq_false_iff_ne]; omega
  have hlt := (s[0]'(by omega)).toNat_lt
  go_enter Tryd.func14, Tryd.ntmps14
  go_wp2
  go_quiet (fail)
  go_wp2
  go_ret
  exact ⟨rfl, endBelow _ _ _⟩

set_option maxRecDepth 100000 in
set_option maxHeartbeats 2000000 in
theorem frune_19_n2out (s : ByteArray) (w : World) (hs : s.size ≤ 1000000) (h0 : s.size = 2) (hx : w.cell? ⟨0, (s[0]'(by omega)).toNat, none⟩ = some (.int .u8 19)) (hl : w.cell? ⟨1, 2, none⟩ = some (.int .u8 160)) (hh : w.cell? ⟨1, 3, none⟩ = some (.int .u8 191)) (hb : (s[1]'(by omega)).toNat < 160 ∨ 191 < (s[1]'(by omega)).toNat) :
    Calls Tryd.prog 14 #[.string s] w fun e w' => e = .returned (.bool true) ∧ Below w.heap.size w w' := by
  have hne : ((s.size : Int) == 0) = false := by rw [beq_eq_false_iff_ne]; omega
  have hlt := (s[0]'(by omega)).toNat_lt
  have z1 : (0 : Int) ≤ 1 := by omega
  have z2 : (1 : Int) < (s.size : Int) := by omega
  have z3 : 1 < s.size := by omega
  rcases hb with hb | hb
  · have q1 : decide (((s[1]'(by omega)).toNat : Int) < 160) = true := by simp; omega
    go_enter Tryd.func14, Tryd.ntmps14
    go_wp2
    go_region
    all_goals go_wp2
    all_goals go_ret
    all_goals exact ⟨rfl, ((Below.refl _ w).alloc (Nat.le_refl _) _).drew⟩
  · have q1 : decide (((s[1]'(by omega)).toNat : Int) < 160) = false := by simp; omega
    have q2 : decide ((191 : Int) < ((s[1]'(by omega)).toNat : Int)) = true := by simp; omega
    go_enter Tryd.func14, Tryd.ntmps14
    go_wp2
    go_region
    all_goals go_wp2
    all_goals go_ret
    all_goals exact ⟨rfl, ((Below.refl _ w).alloc (Nat.le_refl _) _).drew⟩

set_option maxRecDepth 100000 in
set_option maxHeartbeats 2000000 in
theorem frune_19_n2in (s : ByteArray) (w : World) (hs : s.size ≤ 1000000) (h0 : s.size = 2) (hx : w.cell? ⟨0, (s[0]'(by omega)).toNat, none⟩ = some (.int .u8 19)) (hl : w.cell? ⟨1, 2, none⟩ = some (.int .u8 160)) (hh : w.cell? ⟨1, 3, none⟩ = some (.int .u8 191)) (hb : 160 ≤ (s[1]'(by omega)).toNat ∧ (s[1]'(by omega)).toNat ≤ 191) :
    Calls Tryd.prog 14 #[.string s] w fun e w' => e = .returned (.bool false) ∧ Below w.heap.size w w' := by
  have hne : ((s.size : Int) == 0) = false := by rw [beq_eq_false_iff_ne]; omega
  have hlt := (s[0]'(by omega)).toNat_lt
  have z1 : (0 : Int) ≤ 1 := by omega
  have z2 : (1 : Int) < (s.size : Int) := by omega
  have z3 : 1 < s.size := by omega
  have q1 : decide (((s[1]'(by omega)).toNat : Int) < 160) = false := by simp; omega
  have q2 : decide ((191 : Int) < ((s[1]'(by omega)).toNat : Int)) = false := by simp; omega
  go_enter Tryd.func14, Tryd.ntmps14
  go_wp2
  go_region
  all_goals go_wp2
  all_goals go_ret
  all_goals exact ⟨rfl, ((Below.refl _ w).alloc (Nat.le_refl _) _).drew⟩

set_option maxRecDepth 100000 in
set_option maxHeartbeats 2000000 in
theorem frune_3_ge (s : ByteArray) (w : World) (hs : s.size ≤ 1000000) (h0 : 0 < s.size) (hm : 3 ≤ s.size) (hx : w.cell? ⟨0, s[0].toNat, none⟩ = some (.int .u8 3)) :
    Calls Tryd.prog 14 #[.string s] w fun e w' => e = .returned (.bool true) ∧ Below w.heap.size w w' := by
  have hne : ((s.size : Int) == 0) = false := by rw [beq_eq_false_iff_ne]; omega
  have hlt := s[0].toNat_lt
  go_enter Tryd.func14, Tryd.ntmps14
  go_wp2
  go_ret
  exact ⟨rfl, Below.refl _ _⟩

set_option maxRecDepth 100000 in
set_option maxHeartbeats 2000000 in
theorem frune_3_n1 (s : ByteArray) (w : World) (hs : s.size ≤ 1000000) (h0 : s.size = 1) (hx : w.cell? ⟨0, (s[0]'(by omega)).toNat, none⟩ = some (.int .u8 3)) (hl : w.cell? ⟨1, 0, none⟩ = some (.int .u8 128)) (hh : w.cell? ⟨1, 1, none⟩ = some (.int .u8 191)) :
    Calls Tryd.prog 14 #[.string s] w fun e w' => e = .returned (.bool false) ∧ Below w.heap.size w w' := by
  have hne : ((s.size : Int) == 0) = false := by rw [beq_eq_false_iff_ne]; omega
  have hlt := (s[0]'(by omega)).toNat_lt
  go_enter Tryd.func14, Tryd.ntmps14
  go_wp2
  go_quiet (fail)
  go_wp2
  go_ret
  exact ⟨rfl, endBelow _ _ _⟩

set_option maxRecDepth 100000 in
set_option maxHeartbeats 2000000 in
theorem frune_3_n2out (s : ByteArray) (w : World) (hs : s.size ≤ 1000000) (h0 : s.size = 2) (hx : w.cell? ⟨0, (s[0]'(by omega)).toNat, none⟩ = some (.int .u8 3)) (hl : w.cell? ⟨1, 0, none⟩ = some (.int .u8 128)) (hh : w.cell? ⟨1, 1, none⟩ = some (.int .u8 191)) (hb : (s[1]'(by omega)).toNat < 128 ∨ 191 < (s[1]'(by omega)).toNat) :
    Calls Tryd.prog 14 #[.string s] w fun e w' => e = .returned (.bool true) ∧ Below w.heap.size w w' := by
  have hne : ((s.size : Int) == 0) = false := by rw [beq_eq_false_iff_ne]; omega
  have hlt := (s[0]'(by omega)).toNat_lt
  have z1 : (0 : Int) ≤ 1 := by omega
  have z2 : (1 : Int) < (s.size : Int) := by omega
  have z3 : 1 < s.size := by omega
  rcases hb with hb | hb
  · have q1 : decide (((s[1]'(by omega)).toNat : Int) < 128) = true := by simp; omega
    go_enter Tryd.func14, Tryd.ntmps14
    go_wp2
    go_region
    all_goals go_wp2
    all_goals go_ret
    all_goals exact ⟨rfl, ((Below.refl _ w).alloc (Nat.le_refl _) _).drew⟩
  · have q1 : decide (((s[1]'(by omega)).toNat : Int) < 128) = false := by simp; omega
    have q2 : decide ((191 : Int) < ((s[1]'(by omega)).toNat : Int)) = true := by simp; omega
    go_enter Tryd.func14, Tryd.ntmps14
    go_wp2
    go_region
    all_goals go_wp2
    all_goals go_ret
    all_goals exact ⟨rfl, ((Below.refl _ w).alloc (Nat.le_refl _) _).drew⟩

set_option maxRecDepth 100000 in
set_option maxHeartbeats 2000000 in
theorem frune_3_n2in (s : ByteArray) (w : World) (hs : s.size ≤ 1000000) (h0 : s.size = 2) (hx : w.cell? ⟨0, (s[0]'(by omega)).toNat, none⟩ = some (.int .u8 3)) (hl : w.cell? ⟨1, 0, none⟩ = some (.int .u8 128)) (hh : w.cell? ⟨1, 1, none⟩ = some (.int .u8 191)) (hb : 128 ≤ (s[1]'(by omega)).toNat ∧ (s[1]'(by omega)).toNat ≤ 191) :
    Calls Tryd.prog 14 #[.string s] w fun e w' => e = .returned (.bool false) ∧ Below w.heap.size w w' := by
  have hne : ((s.size : Int) == 0) = false := by rw [beq_eq_false_iff_ne]; omega
  have hlt := (s[0]'(by omega)).toNat_lt
  have z1 : (0 : Int) ≤ 1 := by omega
  have z2 : (1 : Int) < (s.size : Int) := by omega
  have z3 : 1 < s.size := by omega
  have q1 : decide (((s[1]'(by omega)).toNat : Int) < 128) = false := by simp; omega
  have q2 : decide ((191 : Int) < ((s[1]'(by omega)).toNat : Int)) = false := by simp; omega
  go_enter Tryd.func14, Tryd.ntmps14
  go_wp2
  go_region
  all_goals go_wp2
  all_goals go_ret
  all_goals exact ⟨rfl, ((Below.refl _ w).alloc (Nat.le_refl _) _).drew⟩

set_option maxRecDepth 100000 in
set_option maxHeartbeats 2000000 in
theorem frune_35_ge (s : ByteArray) (w : World) (hs : s.size ≤ 1000000) (h0 : 0 < s.size) (hm : 3 ≤ s.size) (hx : w.cell? ⟨0, s[0].toNat, none⟩ = some (.int .u8 35)) :
    Calls Tryd.prog 14 #[.string s] w fun e w' => e = .returned (.bool true) ∧ Below w.heap.size w w' := by
  have hne : ((s.size : Int) == 0) = false := by rw [beq_eq_false_iff_ne]; omega
  have hlt := s[0].toNat_lt
  go_enter Tryd.func14, Tryd.ntmps14
  go_wp2
  go_ret
  exact ⟨rfl, Below.refl _ _⟩

set_option maxRecDepth 100000 in
set_option maxHeartbeats 2000000 in
theorem frune_35_n1 (s : ByteArray) (w : World) (hs : s.size ≤ 1000000) (h0 : s.size = 1) (hx : w.cell? ⟨0, (s[0]'(by omega)).toNat, none⟩ = some (.int .u8 35)) (hl : w.cell? ⟨1, 4, none⟩ = some (.int .u8 128)) (hh : w.cell? ⟨1, 5, none⟩ = some (.int .u8 159)) :
    Calls Tryd.prog 14 #[.string s] w fun e w' => e = .returned (.bool false) ∧ Below w.heap.size w w' := by
  have hne : ((s.size : Int) == 0) = false := by rw [beq_eq_false_iff_ne]; omega
  have hlt := (s[0]'(by omega)).toNat_lt
  go_enter Tryd.func14, Tryd.ntmps14
  go_wp2
  go_quiet (fail)
  go_wp2
  go_ret
  exact ⟨rfl, endBelow _ _ _⟩

set_option maxRecDepth 100000 in
set_option maxHeartbeats 2000000 in
theorem frune_35_n2out (s : ByteArray) (w : World) (hs : s.size ≤ 1000000) (h0 : s.size = 2) (hx : w.cell? ⟨0, (s[0]'(by omega)).toNat, none⟩ = some (.int .u8 35)) (hl : w.cell? ⟨1, 4, none⟩ = some (.int .u8 128)) (hh : w.cell? ⟨1, 5, none⟩ = some (.int .u8 159)) (hb : (s[1]'(by omega)).toNat < 128 ∨ 159 < (s[1]'(by omega)).toNat) :
    Calls Tryd.prog 14 #[.string s] w fun e w' => e = .returned (.bool true) ∧ Below w.heap.size w w' := by
  have hne : ((s.size : Int) == 0) = false := by rw [beq_eq_false_iff_ne]; omega
  have hlt := (s[0]'(by omega)).toNat_lt
  have z1 : (0 : Int) ≤ 1 := by omega
  have z2 : (1 : Int) < (s.size : Int) := by omega
  have z3 : 1 < s.size := by omega
  rcases hb with hb | hb
  · have q1 : decide (((s[1]'(by omega)).toNat : Int) < 128) = true := by simp; omega
    go_enter Tryd.func14, Tryd.ntmps14
    go_wp2
    go_region
    all_goals go_wp2
    all_goals go_ret
    all_goals exact ⟨rfl, ((Below.refl _ w).alloc (Nat.le_refl _) _).drew⟩
  · have q1 : decide (((s[1]'(by omega)).toNat : Int) < 128) = false := by simp; omega
    have q2 : decide ((159 : Int) < ((s[1]'(by omega)).toNat : Int)) = true := by simp; omega
    go_enter Tryd.func14, Tryd.ntmps14
    go_wp2
    go_region
    all_goals go_wp2
    all_goals go_ret
    all_goals exact ⟨rfl, ((Below.refl _ w).alloc (Nat.le_refl _) _).drew⟩

set_option maxRecDepth 100000 in
set_option maxHeartbeats 2000000 in
theorem frune_35_n2in (s : ByteArray) (w : World) (hs : s.size ≤ 1000000) (h0 : s.size = 2) (hx : w.cell? ⟨0, (s[0]'(by omega)).toNat, none⟩ = some (.int .u8 35)) (hl : w.cell? ⟨1, 4, none⟩ = some (.int .u8 128)) (hh : w.cell? ⟨1, 5, none⟩ = some (.int .u8 159)) (hb : 128 ≤ (s[1]'(by omega)).toNat ∧ (s[1]'(by omega)).toNat ≤ 159) :
    Calls Tryd.prog 14 #[.string s] w fun e w' => e = .returned (.bool false) ∧ Below w.heap.size w w' := by
  have hne : ((s.size : Int) == 0) = false := by rw [beq_eq_false_iff_ne]; omega
  have hlt := (s[0]'(by omega)).toNat_lt
  have z1 : (0 : Int) ≤ 1 := by omega
  have z2 : (1 : Int) < (s.size : Int) := by omega
  have z3 : 1 < s.size := by omega
  have q1 : decide (((s[1]'(by omega)).toNat : Int) < 128) = false := by simp; omega
  have q2 : decide ((159 : Int) < ((s[1]'(by omega)).toNat : Int)) = false := by simp; omega
  go_enter Tryd.func14, Tryd.ntmps14
  go_wp2
  go_region
  all_goals go_wp2
  all_goals go_ret
  all_goals exact ⟨rfl, ((Below.refl _ w).alloc (Nat.le_refl _) _).drew⟩
end Go.Proofs.YtpebgggdpgppdaaDoor
