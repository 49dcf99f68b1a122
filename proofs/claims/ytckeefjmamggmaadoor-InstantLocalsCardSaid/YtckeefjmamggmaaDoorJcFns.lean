/-
  Helper: the walks of the calendar's small functions: leap years, lengths of months, days before a year, weekdays, of the program and of the reference.
-/
import Derived.Test.YtckeefjmamggmaaDoorJcPlain
import Derived.Test.YtckeefjmamggmaaDoorProg
import Derived.WalkKit
import Derived.Lib.Hide
import Derived.IntWalk
import Derived.Deep.Draws
namespace Go.Proofs.YtckeefjmamggmaaDoor
open Go.RowKit
set_option linter.unusedVariables false

def LTab (w : World) : Prop := 1 < w.heap.size ∧ ∀ (m : Nat), m < 13 → w.cell? ⟨1, m, none⟩ = some (.int .i64 (ml false m))
theorem LTab.below {B : Nat} {w w' : World} (h : LTab w) (hb : Below B w w') (hB : 1 < B) : LTab w' :=
  ⟨Nat.lt_of_lt_of_le h.1 hb.size, fun m hm => by rw [hb.cell (p := ⟨1, m, none⟩) hB]; exact h.2 m hm⟩
theorem tm0 (y k : Int) : (y.tmod k = 0) ↔ (y % k = 0) := by
  rw [← Int.dvd_iff_tmod_eq_zero, Int.dvd_iff_emod_eq_zero]
theorem drewN_below (B : Nat) (w : World) (q : Nat) (hB : B ≤ w.heap.size) : Below B w (w.drewN q) := ⟨rfl, rfl, rfl, Nat.le_refl _, fun _ _ => rfl⟩
theorem tmb (y k : Int) : (y.tmod k == 0) = decide (y % k = 0) := by
  rw [Bool.eq_iff_iff, beq_iff_eq, decide_eq_true_iff, tm0]

theorem tmn (y k : Int) : (y.tmod k != 0) = !decide (y % k = 0) := by
  rw [bne, tmb]

theorem db_any (y : Int) (h0 : 0 ≤ y) (h1 : y ≤ 10000) (w : World) : Calls Tryd.prog 37 #[.int .i64 y] w fun e w' => e = .returned (.int .i64 (db y)) ∧ ∃ q, w' = w.drewN q := by
  go_enter Tryd.func37, Tryd.ntmps37
  go_wp2
  go_ret
  exact ⟨rfl, 0, rfl⟩
theorem leap_any (y : Int) (w : World) : Calls Tryd.prog 51 #[.int .i64 y] w fun e w' => e = .returned (.bool (leap y)) ∧ ∃ q, w' = w.drewN q := by
  have h4 := tmb y 4
  have h100 := tmb y 100
  have h400 := tmb y 400
  have n4 := tmn y 4
  have n100 := tmn y 100
  have n400 := tmn y 400
  have p4 := tm0 y 4
  have p100 := tm0 y 100
  have p400 := tm0 y 400
  have hl : leap y = (decide (y % 4 = 0) && (!decide (y % 100 = 0) || decide (y % 400 = 0))) := by
    unfold leap; simp
  rw [hl]
  clear hl
  by_cases c4 : y % 4 = 0 <;> by_cases c100 : y % 100 = 0 <;> by_cases c400 : y % 400 = 0 <;> first | (exfalso; omega) | skip
  all_goals
    simp only [c4, c100, c400, decide_true, decide_false, iff_true, iff_false, Bool.not_true, Bool.not_false] at h4 h100 h400 n4 n100 n400 p4 p100 p400
    simp only [c4, c100, c400, decide_true, decide_false, Bool.not_true, Bool.not_false, Bool.and_true, Bool.and_false, Bool.or_true, Bool.or_false]
    clear c4 c100 c400
    go_enter Tryd.func51, Tryd.ntmps51
    go_wp2
    all_goals first | contradiction | skip
    all_goals go_ret
    all_goals
      refine ⟨?_, 0, rfl⟩
      show Ending.returned (.bool _) = _
      first | rfl | simp [p4, p100, p400] | simp_all
theorem len_no (y : Int) (m : Nat) (hm : m < 13) (h2 : m ≠ 2) (w : World) (hT : LTab w) : Calls Tryd.prog 40 #[.int .i64 y, .int .i64 m] w fun e w' => e = .returned (.int .i64 (ml (leap y) m)) ∧ ∃ q, w' = w.drewN q := by
  have hc := hT.2 m hm
  have hne : ((m : Int) == 2) = false := by rw [beq_eq_false_iff_ne]; omega
  rw [show ml (leap y) m = ml false m by unfold ml; simp [show ¬((m : Int) = 2) by omega]]
  clear hT
  generalize ml false m = v at *
  go_enter Tryd.func40, Tryd.ntmps40
  go_wp2
  go_ret
  exact ⟨rfl, 0, rfl⟩
theorem len_2 (y : Int) (w : World) (hT : LTab w) : Calls Tryd.prog 40 #[.int .i64 y, .int .i64 2] w fun e w' => e = .returned (.int .i64 (ml (leap y) 2)) ∧ ∃ q, w' = w.drewN q := by
  have hc := hT.2 2 (by omega)
  have HL := Lib.hid (leap_any y)
  have hs := Lib.hid hT.1
  clear hT
  generalize leap y = b at *
  cases b
  all_goals
    go_enter Tryd.func40, Tryd.ntmps40
    go_wp2_with fail
    refine (HL.out w).mono ?_
    rintro e w1 ⟨rfl, q, rfl⟩
    have hc1 : (w.drewN q).cell? ⟨1, 2, none⟩ = some (.int .i64 (ml false 2)) := hc
    go_wp2
    go_ret
    exact ⟨rfl, q, rfl⟩
theorem len_any (y : Int) (m : Nat) (hm : m < 13) (w : World) (hT : LTab w) : Calls Tryd.prog 40 #[.int .i64 y, .int .i64 m] w fun e w' => e = .returned (.int .i64 (ml (leap y) m)) ∧ ∃ q, w' = w.drewN q := by
  by_cases h : m = 2
  · subst h; exact len_2 y w hT
  · exact len_no y m hm h w hT

theorem tmod7 (n : Int) : n.tmod 7 = n % 7 ∨ n.tmod 7 = n % 7 - 7 := by
  rw [Int.tmod_eq_emod]
  split
  · left; omega
  · right; rfl
theorem tmod_wd (n : Int) : ((n.tmod 7 + 7 + 3) % 7 = wd n) ∧ -7 ≤ n.tmod 7 ∧ n.tmod 7 ≤ 6 := by
  have h := tmod7 n
  unfold wd
  omega
end Go.Proofs.YtckeefjmamggmaaDoor
