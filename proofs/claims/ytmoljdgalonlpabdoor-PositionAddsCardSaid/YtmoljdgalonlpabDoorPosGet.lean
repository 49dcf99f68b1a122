/-
  Helper: the walks of the small methods of position.Lines: Count, begin, has, end.
-/
import Derived.Test.YtmoljdgalonlpabDoorBase
import Derived.Test.YtmoljdgalonlpabDoorShelf
import Derived.Test.YtmoljdgalonlpabDoorPosPlain
import Derived.WalkKit
import Derived.BigQuiet
import Derived.Deep.QuietTactic
import Derived.Lib.Hide
namespace Go.Proofs.YtmoljdgalonlpabDoor
open Go.RowKit
set_option linter.unusedVariables false

/-- the cells behind a slice that reads as n numbers -/
def Rd (w : World) (a : Option Addr) (n : Nat) (f : Nat → Nat) : Prop :=
  n = 0 ∨ ∃ b off, a = some ⟨b, off, none⟩ ∧ b < w.heap.size ∧ ∀ i, i < n → w.cell? ⟨b, off + i, none⟩ = some (.int .i64 ((f i : Nat) : Int))
theorem Rd.below {w w' : World} {a : Option Addr} {n : Nat} {f : Nat → Nat} (h : Rd w a n f) (hb : Below w.heap.size w w') : Rd w' a n f := by
  rcases h with h | ⟨b, off, rfl, hlt, hc⟩
  · exact .inl h
  · exact .inr ⟨b, off, rfl, Nat.lt_of_lt_of_le hlt hb.size, fun i hi => by rw [hb.cell hlt]; exact hc i hi⟩
theorem Rd.alloc {w : World} {a : Option Addr} {n : Nat} {f : Nat → Nat} (h : Rd w a n f) (o : Obj) : Rd (w.alloc o) a n f := h.below ((Below.refl _ w).alloc (Nat.le_refl _) o)
/-- one cell -/
theorem Rd.at {w : World} {a : Option Addr} {n : Nat} {f : Nat → Nat} (h : Rd w a n f) (i : Nat) (hi : i < n) : ∃ b off, a = some ⟨b, off, none⟩ ∧ b < w.heap.size ∧ w.cell? ⟨b, off + i, none⟩ = some (.int .i64 ((f i : Nat) : Int)) := by
  rcases h with h | ⟨b, off, rfl, hlt, hc⟩
  · omega
  · exact ⟨b, off, rfl, hlt, hc i hi⟩

set_option maxHeartbeats 400000 in
theorem count_any (s : ByteArray) (a : Option Addr) (n cap : Nat) (w : World) (hn : n ≤ 100000) :
    Calls Tryd.prog 9 #[.agg #[.string s, .slice a n cap]] w fun e w' => e = .returned (.int .i64 ((n : Int) + 1)) ∧ Below w.heap.size w w' := by
  go_enter Tryd.func9, Tryd.ntmps9
  go_wp2
  go_ret
  exact ⟨rfl, (Below.refl _ w).alloc (Nat.le_refl _) _⟩

set_option maxHeartbeats 400000 in
theorem has_yes (s : ByteArray) (a : Option Addr) (n cap : Nat) (w : World) (hn : n ≤ 100000) (i : Int) (h0 : 0 ≤ i) (h1 : i ≤ n) :
    Calls Tryd.prog 14 #[.agg #[.string s, .slice a n cap], .int .i64 i] w fun e w' => e = .returned (.bool true) ∧ Below w.heap.size w w' := by
  have hd : decide (i < (n : Int) + 1) = true := by simp; omega
  go_enter Tryd.func14, Tryd.ntmps14
  go_wp2_with fail
  refine (count_any _ _ _ _ _ hn).mono ?_
  rintro e w1 ⟨rfl, hb⟩
  go_wp2
  go_ret
  exact ⟨rfl, ((Below.refl _ w).alloc (Nat.le_refl _) _).trans (hb.mono (by simp))⟩
set_option maxHeartbeats 400000 in
theorem has_no (s : ByteArray) (a : Option Addr) (n cap : Nat) (w : World) (hn : n ≤ 100000) (i : Int) (h : i < 0 ∨ (n : Int) < i) :
    Calls Tryd.prog 14 #[.agg #[.string s, .slice a n cap], .int .i64 i] w fun e w' => e = .returned (.bool false) ∧ Below w.heap.size w w' := by
  rcases h with h | h
  · go_enter Tryd.func14, Tryd.ntmps14
    go_wp2_with fail
    go_ret
    exact ⟨rfl, (Below.refl _ w).alloc (Nat.le_refl _) _⟩
  · have hd : decide (i < (n : Int) + 1) = false := by simp; omega
    go_enter Tryd.func14, Tryd.ntmps14
    go_wp2_with fail
    refine (count_any _ _ _ _ _ hn).mono ?_
    rintro e w1 ⟨rfl, hb⟩
    go_wp2
    go_ret
    exact ⟨rfl, ((Below.refl _ w).alloc (Nat.le_refl _) _).trans (hb.mono (by simp))⟩

set_option maxHeartbeats 400000 in
theorem begin_zero (s : ByteArray) (a : Option Addr) (n cap : Nat) (w : World) :
    Calls Tryd.prog 13 #[.agg #[.string s, .slice a n cap], .int .i64 0] w fun e w' => e = .returned (.int .i64 0) ∧ Below w.heap.size w w' := by
  go_enter Tryd.func13, Tryd.ntmps13
  go_wp2_with fail
  go_ret
  exact ⟨rfl, (Below.refl _ w).alloc (Nat.le_refl _) _⟩
set_option maxHeartbeats 400000 in
theorem begin_more (s : ByteArray) (a : Option Addr) (n cap : Nat) (f : Nat → Nat) (w : World) (hn : n ≤ 100000) (hr : Rd w a n f) (i : Nat) (hi : i < n) :
    Calls Tryd.prog 13 #[.agg #[.string s, .slice a n cap], .int .i64 ((i : Int) + 1)] w fun e w' => e = .returned (.int .i64 ((f i : Nat) : Int)) ∧ Below w.heap.size w w' := by
  obtain ⟨b, off, rfl, hlt, hc⟩ := hr.at i hi
  clear hr
  have hc2 : (w.alloc (.cells #[.string s, .slice (some ⟨b, off, none⟩) n cap] 24)).cell? ⟨b, off + i, none⟩ = some (.int .i64 ((f i : Nat) : Int)) := by rw [World.cell?_alloc_past _ _ _ hlt]; exact hc
  go_enter Tryd.func13, Tryd.ntmps13
  go_wp2_with fail
  go_ret
  exact ⟨rfl, (Below.refl _ w).alloc (Nat.le_refl _) _⟩

set_option maxHeartbeats 400000 in
theorem end_in (s : ByteArray) (a : Option Addr) (n cap : Nat) (f : Nat → Nat) (w : World) (hn : n ≤ 100000) (hr : Rd w a n f) (i : Nat) (hi : i < n) (hf : 1 ≤ f i ∧ f i ≤ 100000) :
    Calls Tryd.prog 15 #[.agg #[.string s, .slice a n cap], .int .i64 i] w fun e w' => e = .returned (.int .i64 (((f i : Nat) : Int) - 1)) ∧ Below w.heap.size w w' := by
  obtain ⟨b, off, rfl, hlt, hc⟩ := hr.at i hi
  clear hr
  have hc2 : (w.alloc (.cells #[.string s, .slice (some ⟨b, off, none⟩) n cap] 24)).cell? ⟨b, off + i, none⟩ = some (.int .i64 ((f i : Nat) : Int)) := by rw [World.cell?_alloc_past _ _ _ hlt]; exact hc
  go_enter Tryd.func15, Tryd.ntmps15
  go_wp2_with fail
  go_ret
  exact ⟨rfl, (Below.refl _ w).alloc (Nat.le_refl _) _⟩
set_option maxHeartbeats 400000 in
theorem end_last (s : ByteArray) (a : Option Addr) (n cap : Nat) (w : World) (hn : n ≤ 100000) (hs : s.size ≤ 100000) :
    Calls Tryd.prog 15 #[.agg #[.string s, .slice a n cap], .int .i64 n] w fun e w' => e = .returned (.int .i64 s.size) ∧ Below w.heap.size w w' := by
  go_enter Tryd.func15, Tryd.ntmps15
  go_wp2_with fail
  go_ret
  exact ⟨rfl, (Below.refl _ w).alloc (Nat.le_refl _) _⟩

/-! The same in the plain words. -/
/-- the beginnings of the lines behind the first one, by number -/
def nlf (s : ByteArray) (i : Nat) : Nat := (nls s.data.toList s.size).getD i 0
def nln (s : ByteArray) : Nat := cnt s.data.toList s.size
theorem nln_le (s : ByteArray) : nln s ≤ s.size := cnt_le _ _
theorem nlf_bd (s : ByteArray) (i : Nat) (hi : i < nln s) : 1 ≤ nlf s i ∧ nlf s i ≤ s.size := by
  have := nls_mem _ _ _ (nls_get_mem s.data.toList s.size i hi)
  exact ⟨this.1, this.2.1⟩
def begS (s : ByteArray) (i : Nat) : Nat := beg s.data.toList i
def finS (s : ByteArray) (i : Nat) : Nat := fin s.data.toList i
theorem begS_succ (s : ByteArray) (i : Nat) : begS s (i + 1) = nlf s i := by
  unfold begS beg nlf; rw [if_neg (by omega), len_eq, Nat.add_sub_cancel]
theorem finS_in (s : ByteArray) (i : Nat) (h : i < nln s) : finS s i = nlf s i - 1 := by
  unfold nln at h; unfold finS fin; rw [len_eq, if_pos h]; rfl
theorem finS_last (s : ByteArray) : finS s (nln s) = s.size := by
  unfold finS fin; rw [len_eq, if_neg (by unfold nln; omega)]

theorem begin_any (s : ByteArray) (a : Option Addr) (cap : Nat) (w : World) (hs : s.size ≤ 100000) (hr : Rd w a (nln s) (nlf s)) (i : Nat) (hi : i ≤ nln s) :
    Calls Tryd.prog 13 #[.agg #[.string s, .slice a (nln s) cap], .int .i64 i] w fun e w' => e = .returned (.int .i64 (begS s i)) ∧ Below w.heap.size w w' := by
  have hn := nln_le s
  cases i with
  | zero => exact begin_zero s a (nln s) cap w
  | succ i => rw [begS_succ]; exact begin_more s a (nln s) cap (nlf s) w (by omega) hr i (by omega)
theorem end_any (s : ByteArray) (a : Option Addr) (cap : Nat) (w : World) (hs : s.size ≤ 100000) (hr : Rd w a (nln s) (nlf s)) (i : Nat) (hi : i ≤ nln s) :
    Calls Tryd.prog 15 #[.agg #[.string s, .slice a (nln s) cap], .int .i64 i] w fun e w' => e = .returned (.int .i64 (finS s i)) ∧ Below w.heap.size w w' := by
  have hn := nln_le s
  by_cases h : i < nln s
  · have hb := nlf_bd s i h
    rw [finS_in s i h, show ((nlf s i - 1 : Nat) : Int) = ((nlf s i : Nat) : Int) - 1 from by omega]
    exact end_in s a (nln s) cap (nlf s) w (by omega) hr i h (by omega)
  · obtain rfl : i = nln s := by omega
    rw [finS_last]
    exact end_last s a (nln s) cap w (by omega) hs
end Go.Proofs.YtmoljdgalonlpabDoor
