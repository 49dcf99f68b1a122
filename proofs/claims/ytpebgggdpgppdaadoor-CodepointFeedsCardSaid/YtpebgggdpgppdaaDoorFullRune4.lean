/-
  Helper: the walk of utf8.FullRuneInString where the first byte begins a sequence of four bytes.
-/
import Derived.Test.YtpebgggdpgppdaaDoorFullRune
namespace Go.Proofs.YtpebgggdpgppdaaDoor
open Go.RowKit
set_option linter.unusedVariables false

set_option maxRecDepth 100000 in
set_option maxHeartbeats 2000000 in
theorem frune_52_ge (s : ByteArray) (w : World) (hs : s.size ≤ 1000000) (h0 : 0 < s.size) (hm : 4 ≤ s.size) (hx : w.cell? ⟨0, s[0].toNat, none⟩ = some (.int .u8 52)) :
    Calls Tryd.prog 14 #[.string s] w fun e w' => e = .returned (.bool true) ∧ Below w.heap.size w w' := by
  have hne : ((s.size : Int) == 0) = false := by rw [beq_eq_false_iff_ne]; omega
  have hlt := s[0].toNat_lt
  go_enter Tryd.func14, Tryd.ntmps14
  go_wp2
  go_ret
  exact ⟨rfl, Below.refl _ _⟩

set_option maxRecDepth 100000 in
set_option maxHeartbeats 2000000 in
theorem frune_52_n1 (s : ByteArray) (w : World) (hs : s.size ≤ 1000000) (h0 : s.size = 1) (hx : w.cell? ⟨0, (s[0]'(by omega)).toNat, none⟩ = some (.int .u8 52)) (hl : w.cell? ⟨1, 6, none⟩ = some (.int .u8 144)) (hh : w.cell? ⟨1, 7, none⟩ = some (.int .u8 191)) :
    Calls Tryd.prog 14 #[.string s] w fun e w' => e = .returned (.bool false) ∧ Below w.heap.size w w' := by
  have hne : ((s.size : Int) == 0) = false := by rw [beq_eq_false_iff_ne]; omega
  have hlt := (s[0]'(by omega)).toNat_lt
  go_enter Tryd.func14, Tryd.ntmps14
  go_wp2
  go_quiet (fail)
  go_wp2
  go_ret
  exact ⟨rfl, endBelow _ _ _⟩

set_option maxRecDepth 100000 in
set_option maxHeartbeats 2000000 in
theorem frune_52_n2out (s : ByteArray) (w : World) (hs : s.size ≤ 1000000) (h0 : s.size = 2) (hx : w.cell? ⟨0, (s[0]'(by omega)).toNat, none⟩ = some (.int .u8 52)) (hl : w.cell? ⟨1, 6, none⟩ = some (.int .u8 144)) (hh : w.cell? ⟨1, 7, none⟩ = some (.int .u8 191)) (hb : (s[1]'(by omega)).toNat < 144 ∨ 191 < (s[1]'(by omega)).toNat) :
    Calls Tryd.prog 14 #[.string s] w fun e w' => e = .returned (.bool true) ∧ Below w.heap.size w w' := by
  have hne : ((s.size : Int) == 0) = false := by rw [beq_eq_false_iff_ne]; omega
  have hlt := (s[0]'(by omega)).toNat_lt
  have z1 : (0 : Int) ≤ 1 := by omega
  have z2 : (1 : Int) < (s.size : Int) := by omega
  have z3 : 1 < s.size := by omega
  rcases hb with hb | hb
  · have q1 : decide (((s[1]'(by omega)).toNat : Int) < 144) = true := by simp; omega
    go_enter Tryd.func14, Tryd.ntmps14
    go_wp2
    go_region
    all_goals go_wp2
    all_goals go_ret
    all_goals exact ⟨rfl, ((Below.refl _ w).alloc (Nat.le_refl _) _).drew⟩
  · have q1 : decide (((s[1]'(by omega)).toNat : Int) < 144) = false := by simp; omega
    have q2 : decide ((191 : Int) < ((s[1]'(by omega)).toNat : Int)) = true := by simp; omega
    go_enter Tryd.func14, Tryd.ntmps14
    go_wp2
    go_region
    all_goals go_wp2
    all_goals go_ret
    all_goals exact ⟨rfl, ((Below.refl _ w).alloc (Nat.le_refl _) _).drew⟩

set_option maxRecDepth 100000 in
set_option maxHeartbeats 2000000 in
theorem frune_52_n2in (s : ByteArray) (w : World) (hs : s.size ≤ 1000000) (h0 : s.size = 2) (hx : w.cell? ⟨0, (s[0]'(by omega)).toNat, none⟩ = some (.int .u8 52)) (hl : w.cell? ⟨1, 6, none⟩ = some (.int .u8 144)) (hh : w.cell? ⟨1, 7, none⟩ = some (.int .u8 191)) (hb : 144 ≤ (s[1]'(by omega)).toNat ∧ (s[1]'(by omega)).toNat ≤ 191) :
    Calls Tryd.prog 14 #[.string s] w fun e w' => e = .returned (.bool false) ∧ Below w.heap.size w w' := by
  have hne : ((s.size : Int) == 0) = false := by rw [beq_eq_false_iff_ne]; omega
  have hlt := (s[0]'(by omega)).toNat_lt
  have z1 : (0 : Int) ≤ 1 := by omega
  have z2 : (1 : Int) < (s.size : Int) := by omega
  have z3 : 1 < s.size := by omega
  have q1 : decide (((s[1]'(by omega)).toNat : Int) < 144) = false := by simp; omega
  have q2 : decide ((191 : Int) < ((s[1]'(by omega)).toNat : Int)) = false := by simp; omega
  go_enter Tryd.func14, Tryd.ntmps14
  go_wp2
  go_region
  all_goals go_wp2
  all_goals go_ret
  all_goals exact ⟨rfl, ((Below.refl _ w).alloc (Nat.le_refl _) _).drew⟩

set_option maxRecDepth 100000 in
set_option maxHeartbeats 2000000 in
theorem frune_52_n3b (s : ByteArray) (w : World) (hs : s.size ≤ 1000000) (h0 : s.size = 3) (hx : w.cell? ⟨0, (s[0]'(by omega)).toNat, none⟩ = some (.int .u8 52)) (hl : w.cell? ⟨1, 6, none⟩ = some (.int .u8 144)) (hh : w.cell? ⟨1, 7, none⟩ = some (.int .u8 191)) (hb : (s[1]'(by omega)).toNat < 144 ∨ 191 < (s[1]'(by omega)).toNat) :
    Calls Tryd.prog 14 #[.string s] w fun e w' => e = .returned (.bool true) ∧ Below w.heap.size w w' := by
  have hne : ((s.size : Int) == 0) = false := by rw [beq_eq_false_iff_ne]; omega
  have hlt := (s[0]'(by omega)).toNat_lt
  have z1 : (0 : Int) ≤ 1 := by omega
  have z2 : (1 : Int) < (s.size : Int) := by omega
  have z3 : 1 < s.size := by omega
  have z4 : (2 : Int) < (s.size : Int) := by omega
  have z5 : 2 < s.size := by omega
  rcases hb with hb | hb
  · have q1 : decide (((s[1]'(by omega)).toNat : Int) < 144) = true := by simp; omega
    go_enter Tryd.func14, Tryd.ntmps14
    go_wp2
    go_region
    all_goals go_wp2
    all_goals go_ret
    all_goals exact ⟨rfl, ((Below.refl _ w).alloc (Nat.le_refl _) _).drew⟩
  · have q1 : decide (((s[1]'(by omega)).toNat : Int) < 144) = false := by simp; omega
    have q2 : decide ((191 : Int) < ((s[1]'(by omega)).toNat : Int)) = true := by simp; omega
    go_enter Tryd.func14, Tryd.ntmps14
    go_wp2
    go_region
    all_goals go_wp2
    all_goals go_ret
    all_goals exact ⟨rfl, ((Below.refl _ w).alloc (Nat.le_refl _) _).drew⟩

set_option maxRecDepth 100000 in
set_option maxHeartbeats 2000000 in
theorem frune_52_n3d (s : ByteArray) (w : World) (hs : s.size ≤ 1000000) (h0 : s.size = 3) (hx : w.cell? ⟨0, (s[0]'(by omega)).toNat, none⟩ = some (.int .u8 52)) (hl : w.cell? ⟨1, 6, none⟩ = some (.int .u8 144)) (hh : w.cell? ⟨1, 7, none⟩ = some (.int .u8 191)) (hb : 144 ≤ (s[1]'(by omega)).toNat ∧ (s[1]'(by omega)).toNat ≤ 191) (hd : (s[2]'(by omega)).toNat < 128 ∨ 191 < (s[2]'(by omega)).toNat) :
    Calls Tryd.prog 14 #[.string s] w fun e w' => e = .returned (.bool true) ∧ Below w.heap.size w w' := by
  have hne : ((s.size : Int) == 0) = false := by rw [beq_eq_false_iff_ne]; omega
  have hlt := (s[0]'(by omega)).toNat_lt
  have z1 : (0 : Int) ≤ 1 := by omega
  have z2 : (1 : Int) < (s.size : Int) := by omega
  have z3 : 1 < s.size := by omega
  have z4 : (2 : Int) < (s.size : Int) := by omega
  have z5 : 2 < s.size := by omega
  have q1 : decide (((s[1]'(by omega)).toNat : Int) < 144) = false := by simp; omega
  have q2 : decide ((191 : Int) < ((s[1]'(by omega)).toNat : Int)) = false := by simp; omega
  rcases hd with hd | hd
  · have q3 : decide (((s[2]'(by omega)).toNat : Int) < 128) = true := by simp; omega
    go_enter Tryd.func14, Tryd.ntmps14
    go_wp2
    go_region
    all_goals go_wp2
    all_goals go_ret
    all_goals exact ⟨rfl, ((Below.refl _ w).alloc (Nat.le_refl _) _).drew⟩
  · have q3 : decide (((s[2]'(by omega)).toNat : Int) < 128) = false := by simp; omega
    have q4 : decide ((191 : Int) < ((s[2]'(by omega)).toNat : Int)) = true := by simp; omega
    go_enter Tryd.func14, Tryd.ntmps14
    go_wp2
    go_region
    all_goals go_wp2
    all_goals go_ret
    all_goals exact ⟨rfl, ((Below.refl _ w).alloc (Nat.le_refl _) _).drew⟩

set_option maxRecDepth 100000 in
set_option maxHeartbeats 2000000 in
theorem frune_52_n3in (s : ByteArray) (w : World) (hs : s.size ≤ 1000000) (h0 : s.size = 3) (hx : w.cell? ⟨0, (s[0]'(by omega)).toNat, none⟩ = some (.int .u8 52)) (hl : w.cell? ⟨1, 6, none⟩ = some (.int .u8 144)) (hh : w.cell? ⟨1, 7, none⟩ = some (.int .u8 191)) (hb : 144 ≤ (s[1]'(by omega)).toNat ∧ (s[1]'(by omega)).toNat ≤ 191) (hd : 128 ≤ (s[2]'(by omega)).toNat ∧ (s[2]'(by omega)).toNat ≤ 191) :
    Calls Tryd.prog 14 #[.string s] w fun e w' => e = .returned (.bool false) ∧ Below w.heap.size w w' := by
  have hne : ((s.size : Int) == 0) = false := by rw [beq_eq_false_iff_ne]; omega
  have hlt := (s[0]'(by omega)).toNat_lt
  have z1 : (0 : Int) ≤ 1 := by omega
  have z2 : (1 : Int) < (s.size : Int) := by omega
  have z3 : 1 < s.size := by omega
  have z4 : (2 : Int) < (s.size : Int) := by omega
  have z5 : 2 < s.size := by omega
  have q1 : decide (((s[1]'(by omega)).toNat : Int) < 144) = false := by simp; omega
  have q2 : decide ((191 : Int) < ((s[1]'(by omega)).toNat : Int)) = false := by simp; omega
  have q3 : decide (((s[2]'(by omega)).toNat : Int) < 128) = false := by simp; omega
  have q4 : decide ((191 : Int) < ((s[2]'(by omega)).toNat : Int)) = false := by simp; omega
  go_enter Tryd.func14, Tryd.ntmps14
  go_wp2
  go_region
  all_goals go_wp2
  all_goals go_ret
  all_goals exact ⟨rfl, ((Below.refl _ w).alloc (Nat.le_refl _) _).drew⟩

set_option maxRecDepth 100000 in
set_option maxHeartbeats 2000000 in
theorem frune_4_ge (s : ByteArray) (w : World) (hs : s.size ≤ 1000000) (h0 : 0 < s.size) (hm : 4 ≤ s.size) (hx : w.cell? ⟨0, s[0].toNat, none⟩ = some (.int .u8 4)) :
    Calls Tryd.prog 14 #[.string s] w fun e w' => e = .returned (.bool true) ∧ Below w.heap.size w w' := by
  have hne : ((s.size : Int) == 0) = false := by rw [beq_eq_false_iff_ne]; omega
  have hlt := s[0].toNat_lt
  go_enter Tryd.func14, Tryd.ntmps14
  go_wp2
  go_ret
  exact ⟨rfl, Below.refl _ _⟩

set_option maxRecDepth 100000 in
set_option maxHeartbeats 2000000 in
theorem frune_4_n1 (s : ByteArray) (w : World) (hs : s.size ≤ 1000000) (h0 : s.size = 1) (hx : w.cell? ⟨0, (s[0]'(by omega)).toNat, none⟩ = some (.int .u8 4)) (hl : w.cell? ⟨1, 0, none⟩ = some (.int .u8 128)) (hh : w.cell? ⟨1, 1, none⟩ = some (.int .u8 191)) :
    Calls Tryd.prog 14 #[.string s] w fun e w' => e = .returned (.bool false) ∧ Below w.heap.size w w' := by
  have hne : ((s.size : Int) == 0) = false := by rw [beq_eq_false_iff_ne]; omega
  have hlt := (s[0]'(by omega)).toNat_lt
  go_enter Tryd.func14, Tryd.ntmps14
  go_wp2
  go_quiet (fail)
  go_wp2
  go_ret
  exact ⟨rfl, endBelow _ _ _⟩

set_option maxRecDepth 100000 in
set_option maxHeartbeats 2000000 in
theorem frune_4_n2out (s : ByteArray) (w : World) (hs : s.size ≤ 1000000) (h0 : s.size = 2) (hx : w.cell? ⟨0, (s[0]'(by omega)).toNat, none⟩ = some (.int .u8 4)) (hl : w.cell? ⟨1, 0, none⟩ = some (.int .u8 128)) (hh : w.cell? ⟨1, 1, none⟩ = some (.int .u8 191)) (hb : (s[1]'(by omega)).toNat < 128 ∨ 191 < (s[1]'(by omega)).toNat) :
    Calls Tryd.prog 14 #[.string s] w fun e w' => e = .returned (.bool true) ∧ Below w.heap.size w w' := by
  have hne : ((s.size : Int) == 0) = false := by rw [beq_eq_false_iff_ne]; omega
  have hlt := (s[0]'(by omega)).toNat_lt
  have z1 : (0 : Int) ≤ 1 := by omega
  have z2 : (1 : Int) < (s.size : Int) := by omega
  have z3 : 1 < s.size := by omega
  rcases hb with hb | hb
  · have q1 : decide (((s[1]'(by omega)).toNat : Int) < 128) = true := by simp; omega
    go_enter Tryd.func14, Tryd.ntmps14
    go_wp2
    go_region
    all_goals go_wp2
    all_goals go_ret
    all_goals exact ⟨rfl, ((Below.refl _ w).alloc (Nat.le_refl _) _).drew⟩
  · have q1 : decide (((s[1]'(by omega)).toNat : Int) < 128) = false := by simp; omega
    have q2 : decide ((191 : Int) < ((s[1]'(by omega)).toNat : Int)) = true := by simp; omega
    go_enter Tryd.func14, Tryd.ntmps14
    go_wp2
    go_region
    all_goals go_wp2
    all_goals go_ret
    all_goals exact ⟨rfl, ((Below.refl _ w).alloc (Nat.le_refl _) _).drew⟩

set_option maxRecDepth 100000 in
set_option maxHeartbeats 2000000 in
theorem frune_4_n2in (s : ByteArray) (w : World) (hs : s.size ≤ 1000000) (h0 : s.size = 2) (hx : w.cell? ⟨0, (s[0]'(by omega)).toNat, none⟩ = some (.int .u8 4)) (hl : w.cell? ⟨1, 0, none⟩ = some (.int .u8 128)) (hh : w.cell? ⟨1, 1, none⟩ = some (.int .u8 191)) (hb : 128 ≤ (s[1]'(by omega)).toNat ∧ (s[1]'(by omega)).toNat ≤ 191) :
    Calls Tryd.prog 14 #[.string s] w fun e w' => e = .returned (.bool false) ∧ Below w.heap.size w w' := by
  have hne : ((s.size : Int) == 0) = false := by rw [beq_eq_false_iff_ne]; omega
  have hlt := (s[0]'(by omega)).toNat_lt
  have z1 : (0 : Int) ≤ 1 := by omega
  have z2 : (1 : Int) < (s.size : Int) := by omega
  have z3 : 1 < s.size := by omega
  have q1 : decide (((s[1]'(by omega)).toNat : Int) < 128) = false := by simp; omega
  have q2 : decide ((191 : Int) < ((s[1]'(by omega)).toNat : Int)) = false := by simp; omega
  go_enter Tryd.func14, Tryd.ntmps14
  go_wp2
  go_region
  all_goals go_wp2
  all_goals go_ret
  all_goals exact ⟨rfl, ((Below.refl _ w).alloc (Nat.le_refl _) _).drew⟩

set_option maxRecDepth 100000 in
set_option maxHeartbeats 2000000 in
theorem frune_4_n3b (s : ByteArray) (w : World) (hs : s.size ≤ 1000000) (h0 : s.size = 3) (hx : w.cell? ⟨0, (s[0]'(by omega)).toNat, none⟩ = some (.int .u8 4)) (hl : w.cell? ⟨1, 0, none⟩ = some (.int .u8 128)) (hh : w.cell? ⟨1, 1, none⟩ = some (.int .u8 191)) (hb : (s[1]'(by omega)).toNat < 128 ∨ 191 < (s[1]'(by omega)).toNat) :
    Calls Tryd.prog 14 #[.string s] w fun e w' => e = .returned (.bool true) ∧ Below w.heap.size w w' := by
  have hne : ((s.size : Int) == 0) = false := by rw [beq_eq_false_iff_ne]; omega
  have hlt := (s[0]'(by omega)).toNat_lt
  have z1 : (0 : Int) ≤ 1 := by omega
  have z2 : (1 : Int) < (s.size : Int) := by omega
  have z3 : 1 < s.size := by omega
  have z4 : (2 : Int) < (s.size : Int) := by omega
  have z5 : 2 < s.size := by omega
  rcases hb with hb | hb
  · have q1 : decide (((s[1]'(by omega)).toNat : Int) < 128) = true := by simp; omega
    go_enter Tryd.func14, Tryd.ntmps14
    go_wp2
    go_region
    all_goals go_wp2
    all_goals go_ret
    all_goals exact ⟨rfl, ((Below.refl _ w).alloc (Nat.le_refl _) _).drew⟩
  · have q1 : decide (((s[1]'(by omega)).toNat : Int) < 128) = false := by simp; omega
    have q2 : decide ((191 : Int) < ((s[1]'(by omega)).toNat : Int)) = true := by simp; omega
    go_enter Tryd.func14, Tryd.ntmps14
    go_wp2
    go_region
    all_goals go_wp2
    all_goals go_ret
    all_goals exact ⟨rfl, ((Below.refl _ w).alloc (Nat.le_refl _) _).drew⟩

set_option maxRecDepth 100000 in
set_option maxHeartbeats 2000000 in
theorem frune_4_n3d (s : ByteArray) (w : World) (hs : s.size ≤ 1000000) (h0 : s.size = 3) (hx : w.cell? ⟨0, (s[0]'(by omega)).toNat, none⟩ = some (.int .u8 4)) (hl : w.cell? ⟨1, 0, none⟩ = some (.int .u8 128)) (hh : w.cell? ⟨1, 1, none⟩ = some (.int .u8 191)) (hb : 128 ≤ (s[1]'(by omega)).toNat ∧ (s[1]'(by omega)).toNat ≤ 191) (hd : (s[2]'(by omega)).toNat < 128 ∨ 191 < (s[2]'(by omega)).toNat) :
    Calls Tryd.prog 14 #[.string s] w fun e w' => e = .returned (.bool true) ∧ Below w.heap.size w w' := by
  have hne : ((s.size : Int) == 0) = false := by rw [beq_eq_false_iff_ne]; omega
  have hlt := (s[0]'(by omega)).toNat_lt
  have z1 : (0 : Int) ≤ 1 := by omega
  have z2 : (1 : Int) < (s.size : Int) := by omega
  have z3 : 1 < s.size := by omega
  have z4 : (2 : Int) < (s.size : Int) := by omega
  have z5 : 2 < s.size := by omega
  have q1 : decide (((s[1]'(by omega)).toNat : Int) < 128) = false := by simp; omega
  have q2 : decide ((191 : Int) < ((s[1]'(by omega)).toNat : Int)) = false := by simp; omega
  rcases hd with hd | hd
  · have q3 : decide (((s[2]'(by omega)).toNat : Int) < 128) = true := by simp; omega
    go_enter Tryd.func14, Tryd.ntmps14
    go_wp2
    go_region
    all_goals go_wp2
    all_goals go_ret
    all_goals exact ⟨rfl, ((Below.refl _ w).alloc (Nat.le_refl _) _).drew⟩
  · have q3 : decide (((s[2]'(by omega)).toNat : Int) < 128) = false := by simp; omega
    have q4 : decide ((191 : Int) < ((s[2]'(by omega)).toNat : Int)) = true := by simp; omega
    go_enter Tryd.func14, Tryd.ntmps14
    go_wp2
    go_region
    all_goals go_wp2
    all_goals go_ret
    all_goals exact ⟨rfl, ((Below.refl _ w).alloc (Nat.le_refl _) _).drew⟩

set_option maxRecDepth 100000 in
set_option maxHeartbeats 2000000 in
theorem frune_4_n3in (s : ByteArray) (w : World) (hs : s.size ≤ 1000000) (h0 : s.size = 3) (hx : w.cell? ⟨0, (s[0]'(by omega)).toNat, none⟩ = some (.int .u8 4)) (hl : w.cell? ⟨1, 0, none⟩ = some (.int .u8 128)) (hh : w.cell? ⟨1, 1, none⟩ = some (.int .u8 191)) (hb : 128 ≤ (s[1]'(by omega)).toNat ∧ (s[1]'(by omega)).toNat ≤ 191) (hd : 128 ≤ (s[2]'(by omega)).toNat ∧ (s[2]'(by omega)).toNat ≤ 191) :
    Calls Tryd.prog 14 #[.string s] w fun e w' => e = .returned (.bool false) ∧ Below w.heap.size w w' := by
  have hne : ((s.size : Int) == 0) = false := by rw [beq_eq_false_iff_ne]; omega
  have hlt := (s[0]'(by omega)).toNat_lt
  have z1 : (0 : Int) ≤ 1 := by omega
  have z2 : (1 : Int) < (s.size : Int) := by omega
  have z3 : 1 < s.size := by omega
  have z4 : (2 : Int) < (s.size : Int) := by omega
  have z5 : 2 < s.size := by omega
  have q1 : decide (((s[1]'(by omega)).toNat : Int) < 128) = false := by simp; omega
  have q2 : decide ((191 : Int) < ((s[1]'(by omega)).toNat : Int)) = false := by simp; omega
  have q3 : decide (((s[2]'(by omega)).toNat : Int) < 128) = false := by simp; omega
  have q4 : decide ((191 : Int) < ((s[2]'(by omega)).toNat : Int)) = false := by simp; omega
  go_enter Tryd.func14, Tryd.ntmps14
  go_wp2
  go_region
  all_goals go_wp2
  all_goals go_ret
  all_goals exact ⟨rfl, ((Below.refl _ w).alloc (Nat.le_refl _) _).drew⟩

set_option maxRecDepth 100000 in
set_option maxHeartbeats 2000000 in
theorem frune_68_ge (s : ByteArray) (w : World) (hs : s.size ≤ 1000000) (h0 : 0 < s.size) (hm : 4 ≤ s.size) (hx : w.cell? ⟨0, s[0].toNat, none⟩ = some (.int .u8 68)) :
    Calls Tryd.prog 14 #[.string s] w fun e w' => e = .returned (.bool true) ∧ Below w.heap.size w w' := by
  have hne : ((s.size : Int) == 0) = false := by rw [beq_eq_false_iff_ne]; omega
  have hlt := s[0].toNat_lt
  go_enter Tryd.func14, Tryd.ntmps14
  go_wp2
  go_ret
  exact ⟨rfl, Below.refl _ _⟩

set_option maxRecDepth 100000 in
set_option maxHeartbeats 2000000 in
theorem frune_68_n1 (s : ByteArray) (w : World) (hs : s.size ≤ 1000000) (h0 : s.size = 1) (hx : w.cell? ⟨0, (s[0]'(by omega)).toNat, none⟩ = some (.int .u8 68)) (hl : w.cell? ⟨1, 8, none⟩ = some (.int .u8 128)) (hh : w.cell? ⟨1, 9, none⟩ = some (.int .u8 143)) :
    Calls Tryd.prog 14 #[.string s] w fun e w' => e = .returned (.bool false) ∧ Below w.heap.size w w' := by
  have hne : ((s.size : Int) == 0) = false := by rw [beq_eq_false_iff_ne]; omega
  have hlt := (s[0]'(by omega)).toNat_lt
  go_enter Tryd.func14, Tryd.ntmps14
  go_wp2
  go_quiet (fail)
  go_wp2
  go_ret
  exact ⟨rfl, endBelow _ _ _⟩

set_option maxRecDepth 100000 in
set_option maxHeartbeats 2000000 in
theorem frune_68_n2out (s : ByteArray) (w : World) (hs : s.size ≤ 1000000) (h0 : s.size = 2) (hx : w.cell? ⟨0, (s[0]'(by omega)).toNat, none⟩ = some (.int .u8 68)) (hl : w.cell? ⟨1, 8, none⟩ = some (.int .u8 128)) (hh : w.cell? ⟨1, 9, none⟩ = some (.int .u8 143)) (hb : (s[1]'(by omega)).toNat < 128 ∨ 143 < (s[1]'(by omega)).toNat) :
    Calls Tryd.prog 14 #[.string s] w fun e w' => e = .returned (.bool true) ∧ Below w.heap.size w w' := by
  have hne : ((s.size : Int) == 0) = false := by rw [beq_eq_false_iff_ne]; omega
  have hlt := (s[0]'(by omega)).toNat_lt
  have z1 : (0 : Int) ≤ 1 := by omega
  have z2 : (1 : Int) < (s.size : Int) := by omega
  have z3 : 1 < s.size := by omega
  rcases hb with hb | hb
  · have q1 : decide (((s[1]'(by omega)).toNat : Int) < 128) = true := by simp; omega
    go_enter Tryd.func14, Tryd.ntmps14
    go_wp2
    go_region
    all_goals go_wp2
    all_goals go_ret
    all_goals exact ⟨rfl, ((Below.refl _ w).alloc (Nat.le_refl _) _).drew⟩
  · have q1 : decide (((s[1]'(by omega)).toNat : Int) < 128) = false := by simp; omega
    have q2 : decide ((143 : Int) < ((s[1]'(by omega)).toNat : Int)) = true := by simp; omega
    go_enter Tryd.func14, Tryd.ntmps14
    go_wp2
    go_region
    all_goals go_wp2
    all_goals go_ret
    all_goals exact ⟨rfl, ((Below.refl _ w).alloc (Nat.le_refl _) _).drew⟩

set_option maxRecDepth 100000 in
set_option maxHeartbeats 2000000 in
theorem frune_68_n2in (s : ByteArray) (w : World) (hs : s.size ≤ 1000000) (h0 : s.size = 2) (hx : w.cell? ⟨0, (s[0]'(by omega)).toNat, none⟩ = some (.int .u8 68)) (hl : w.cell? ⟨1, 8, none⟩ = some (.int .u8 128)) (hh : w.cell? ⟨1, 9, none⟩ = some (.int .u8 143)) (hb : 128 ≤ (s[1]'(by omega)).toNat ∧ (s[1]'(by omega)).toNat ≤ 143) :
    Calls Tryd.prog 14 #[.string s] w fun e w' => e = .returned (.bool false) ∧ Below w.heap.size w w' := by
  have hne : ((s.size : Int) == 0) = false := by rw [beq_eq_false_iff_ne]; omega
  have hlt := (s[0]'(by omega)).toNat_lt
  have z1 : (0 : Int) ≤ 1 := by omega
  have z2 : (1 : Int) < (s.size : Int) := by omega
  have z3 : 1 < s.size := by omega
  have q1 : decide (((s[1]'(by omega)).toNat : Int) < 128) = false := by simp; omega
  have q2 : decide ((143 : Int) < ((s[1]'(by omega)).toNat : Int)) = false := by simp; omega
  go_enter Tryd.func14, Tryd.ntmps14
  go_wp2
  go_region
  all_goals go_wp2
  all_goals go_ret
  all_goals exact ⟨rfl, ((Below.refl _ w).alloc (Nat.le_refl _) _).drew⟩

set_option maxRecDepth 100000 in
set_option maxHeartbeats 2000000 in
theorem frune_68_n3b (s : ByteArray) (w : World) (hs : s.size ≤ 1000000) (h0 : s.size = 3) (hx : w.cell? ⟨0, (s[0]'(by omega)).toNat, none⟩ = some (.int .u8 68)) (hl : w.cell? ⟨1, 8, none⟩ = some (.int .u8 128)) (hh : w.cell? ⟨1, 9, none⟩ = some (.int .u8 143)) (hb : (s[1]'(by omega)).toNat < 128 ∨ 143 < (s[1]'(by omega)).toNat) :
    Calls Tryd.prog 14 #[.string s] w fun e w' => e = .returned (.bool true) ∧ Below w.heap.size w w' := by
  have hne : ((s.size : Int) == 0) = false := by rw [beq_eq_false_iff_ne]; omega
  have hlt := (s[0]'(by omega)).toNat_lt
  have z1 : (0 : Int) ≤ 1 := by omega
  have z2 : (1 : Int) < (s.size : Int) := by omega
  have z3 : 1 < s.size := by omega
  have z4 : (2 : Int) < (s.size : Int) := by omega
  have z5 : 2 < s.size := by omega
  rcases hb with hb | hb
  · have q1 : decide (((s[1]'(by omega)).toNat : Int) < 128) = true := by simp; omega
    go_enter Tryd.func14, Tryd.ntmps14
    go_wp2
    go_region
    all_goals go_wp2
    all_goals go_ret
    all_goals exact ⟨rfl, ((Below.refl _ w).alloc (Nat.le_refl _) _).drew⟩
  · have q1 : decide (((s[1]'(by omega)).toNat : Int) < 128) = false := by simp; omega
    have q2 : decide ((143 : Int) < ((s[1]'(by omega)).toNat : Int)) = true := by simp; omega
    go_enter Tryd.func14, Tryd.ntmps14
    go_wp2
    go_region
    all_goals go_wp2
    all_goals go_ret
    all_goals exact ⟨rfl, ((Below.refl _ w).alloc (Nat.le_refl _) _).drew⟩

set_option maxRecDepth 100000 in
set_option maxHeartbeats 2000000 in
theorem frune_68_n3d (s : ByteArray) (w : World) (hs : s.size ≤ 1000000) (h0 : s.size = 3) (hx : w.cell? ⟨0, (s[0]'(by omega)).toNat, none⟩ = some (.int .u8 68)) (hl : w.cell? ⟨1, 8, none⟩ = some (.int .u8 128)) (hh : w.cell? ⟨1, 9, none⟩ = some (.int .u8 143)) (hb : 128 ≤ (s[1]'(by omega)).toNat ∧ (s[1]'(by omega)).toNat ≤ 143) (hd : (s[2]'(by omega)).toNat < 128 ∨ 191 < (s[2]'(by omega)).toNat) :
    Calls Tryd.prog 14 #[.string s] w fun e w' => e = .returned (.bool true) ∧ Below w.heap.size w w' := by
  have hne : ((s.size : Int) == 0) = false := by rw [beq_eq_false_iff_ne]; omega
  have hlt := (s[0]'(by omega)).toNat_lt
  have z1 : (0 : Int) ≤ 1 := by omega
  have z2 : (1 : Int) < (s.size : Int) := by omega
  have z3 : 1 < s.size := by omega
  have z4 : (2 : Int) < (s.size : Int) := by omega
  have z5 : 2 < s.size := by omega
  have q1 : decide (((s[1]'(by omega)).toNat : Int) < 128) = false := by simp; omega
  have q2 : decide ((143 : Int) < ((s[1]'(by omega)).toNat : Int)) = false := by simp; omega
  rcases hd with hd | hd
  · have q3 : decide (((s[2]'(by omega)).toNat : Int) < 128) = true := by simp; omega
    go_enter Tryd.func14, Tryd.ntmps14
    go_wp2
    go_region
    all_goals go_wp2
    all_goals go_ret
    all_goals exact ⟨rfl, ((Below.refl _ w).alloc (Nat.le_refl _) _).drew⟩
  · have q3 : decide (((s[2]'(by omega)).toNat : Int) < 128) = false := by simp; omega
    have q4 : decide ((191 : Int) < ((s[2]'(by omega)).toNat : Int)) = true := by simp; omega
    go_enter Tryd.func14, Tryd.ntmps14
    go_wp2
    go_region
    all_goals go_wp2
    all_goals go_ret
    all_goals exact ⟨rfl, ((Below.refl _ w).alloc (Nat.le_refl _) _).drew⟩

set_option maxRecDepth 100000 in
set_option maxHeartbeats 2000000 in
theorem frune_68_n3in (s : ByteArray) (w : World) (hs : s.size ≤ 1000000) (h0 : s.size = 3) (hx : w.cell? ⟨0, (s[0]'(by omega)).toNat, none⟩ = some (.int .u8 68)) (hl : w.cell? ⟨1, 8, none⟩ = some (.int .u8 128)) (hh : w.cell? ⟨1, 9, none⟩ = some (.int .u8 143)) (hb : 128 ≤ (s[1]'(by omega)).toNat ∧ (s[1]'(by omega)).toNat ≤ 143) (hd : 128 ≤ (s[2]'(by omega)).toNat ∧ (s[2]'(by omega)).toNat ≤ 191) :
    Calls Tryd.prog 14 #[.string s] w fun e w' => e = .returned (.bool false) ∧ Below w.heap.size w w' := by
  have hne : ((s.size : Int) == 0) = false := by rw [beq_eq_false_iff_ne]; omega
  have hlt := (s[0]'(by omega)).toNat_lt
  have z1 : (0 : Int) ≤ 1 := by omega
  have z2 : (1 : Int) < (s.size : Int) := by omega
  have z3 : 1 < s.size := by omega
  have z4 : (2 : Int) < (s.size : Int) := by omega
  have z5 : 2 < s.size := by omega
  have q1 : decide (((s[1]'(by omega)).toNat : Int) < 128) = false := by simp; omega
  have q2 : decide ((143 : Int) < ((s[1]'(by omega)).toNat : Int)) = false := by simp; omega
  have q3 : decide (((s[2]'(by omega)).toNat : Int) < 128) = false := by simp; omega
  have q4 : decide ((191 : Int) < ((s[2]'(by omega)).toNat : Int)) = false := by simp; omega
  go_enter Tryd.func14, Tryd.ntmps14
  go_wp2
  go_region
  all_goals go_wp2
  all_goals go_ret
  all_goals exact ⟨rfl, ((Below.refl _ w).alloc (Nat.le_refl _) _).drew⟩
end Go.Proofs.YtpebgggdpgppdaaDoor
