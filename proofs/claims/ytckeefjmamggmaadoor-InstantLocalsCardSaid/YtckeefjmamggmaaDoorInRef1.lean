/-
  Helper: the reference's calendar.
-/
import Derived.Test.YtckeefjmamggmaaDoorInForm2
namespace Go.Proofs.YtckeefjmamggmaaDoor
open Go.RowKit
set_option linter.unusedVariables false

theorem rleap_any (y : Int) (w : World) : Calls Tryd.prog 47 #[.int .i64 y] w fun e w' => e = .returned (.bool (leap y)) ∧ ∃ q, w' = w.drewN q := by
  have h4 := tmb y 4
  have h100 := tmb y 100
  have h400 := tmb y 400
  have n4 := tmn y 4
  have n100 := tmn y 100
  have n400 := tmn y 400
  have p4 := tm0 y 4
  have p100 := tm0 y 100
  have p400 := tm0 y 400
  have hl : leap y = (decide (y % 4 = 0) && (!decide (y % 100 = 0) || decide (y % 400 = 0))) := by
    unfold leap; simp
  rw [hl]
  clear hl
  by_cases c4 : y % 4 = 0 <;> by_cases c100 : y % 100 = 0 <;> by_cases c400 : y % 400 = 0 <;> first | (exfalso; omega) | skip
  all_goals
    simp only [c4, c100, c400, decide_true, decide_false, iff_true, iff_false, Bool.not_true, Bool.not_false] at h4 h100 h400 n4 n100 n400 p4 p100 p400
    simp only [c4, c100, c400, decide_true, decide_false, Bool.not_true, Bool.not_false, Bool.and_true, Bool.and_false, Bool.or_true, Bool.or_false]
    clear c4 c100 c400
    go_enter Tryd.func47, Tryd.ntmps47
    go_wp2
    all_goals first | contradiction | skip
    all_goals go_ret
    all_goals
      refine ⟨?_, 0, rfl⟩
      show Ending.returned (.bool _) = _
      first | rfl | simp [p4, p100, p400] | simp_all
theorem month_any (y : Int) (m : Nat) (h1 : 1 ≤ m) (w : World) : Calls Tryd.prog 32 #[.int .i64 y, .int .i64 m] w fun e w' => e = .returned (.int .i64 (ml (leap y) m)) ∧ ∃ q, w' = w.drewN q := by
  by_cases h2 : m = 2
  · subst h2
    have HL := Lib.hid (rleap_any y)
    cases hl : leap y with
    | true =>
      rw [hl] at HL
      rw [show ml true ((2 : Nat) : Int) = 29 by decide]
      clear hl h1
      go_enter Tryd.func32, Tryd.ntmps32
      go_wp2_with fail
      refine (HL.out _).mono ?_
      rintro e w1 ⟨rfl, q, rfl⟩
      go_wp2
      go_ret
      exact ⟨rfl, q, rfl⟩
    | false =>
      rw [hl] at HL
      rw [show ml false ((2 : Nat) : Int) = 28 by decide]
      clear hl h1
      go_enter Tryd.func32, Tryd.ntmps32
      go_wp2_with fail
      refine (HL.out _).mono ?_
      rintro e w1 ⟨rfl, q, rfl⟩
      go_wp2
      go_ret
      exact ⟨rfl, q, rfl⟩
  · have n2 : ¬ (m : Int) = 2 := by omega
    have n0 : ¬ (m : Int) = 0 := by omega
    by_cases h30 : m = 4 ∨ m = 6 ∨ m = 9 ∨ m = 11
    · have e30 : ml (leap y) m = 30 := by unfold ml; rw [if_neg n0, if_neg n2, if_pos (by omega)]
      rw [e30]
      clear e30 n0
      rcases h30 with rfl | rfl | rfl | rfl <;>
        (clear h2 n2 h1
         go_enter Tryd.func32, Tryd.ntmps32
         go_wp2
         go_ret
         exact ⟨rfl, 0, rfl⟩)
    · have e31 : ml (leap y) m = 31 := by unfold ml; rw [if_neg n0, if_neg n2, if_neg (by omega)]
      rw [e31]
      have m4 : ((m : Int) == 4) = false := by rw [beq_eq_false_iff_ne]; omega
      have m6 : ((m : Int) == 6) = false := by rw [beq_eq_false_iff_ne]; omega
      have m9 : ((m : Int) == 9) = false := by rw [beq_eq_false_iff_ne]; omega
      have m11 : ((m : Int) == 11) = false := by rw [beq_eq_false_iff_ne]; omega
      clear e31 h30 h2 n0 h1
      go_enter Tryd.func32, Tryd.ntmps32
      go_wp2
      go_ret
      exact ⟨rfl, 0, rfl⟩
set_option maxHeartbeats 1000000 in
theorem rdays_any (y m : Nat) (d : Int) (hy : y ≤ 10000) (hm : 1 ≤ m) (hm2 : m ≤ 13) (hd : -100 ≤ d) (hd2 : d ≤ 100) (w : World) : Calls Tryd.prog 28 #[.int .i64 y, .int .i64 m, .int .i64 d] w fun e w' => e = .returned (.int .i64 (dn y m d)) ∧ ∃ q, w' = w.drewN q := by
  have HM := Lib.hid (fun (i : Nat) (hi : 1 ≤ i) => month_any y i hi)
  have hdb := db_bound (y : Int) (by omega) (by omega)
  have hdbe : db (y : Int) = 365 * (y : Int) + ((y : Int) + 3) / 4 - ((y : Int) + 99) / 100 + ((y : Int) + 399) / 400 := rfl
  obtain ⟨V, HV0, HVb, HVs, HVe, HL⟩ : ∃ (V : Nat → Int), Hid (V 1 = 365 * (y : Int) + ((y : Int) + 3) / 4 - ((y : Int) + 99) / 100 + ((y : Int) + 399) / 400 - 719528) ∧ Hid (∀ i, 1 ≤ i → i ≤ 13 → -719528 ≤ V i ∧ V i ≤ 4000000) ∧ Hid (∀ i, 1 ≤ i → i ≤ 12 → V i + ml (leap y) i = V (i + 1)) ∧ Hid (V m + d - 1 = dn y m d) ∧ Hid (∀ i : Nat, 0 ≤ ml (leap y) i ∧ ml (leap y) i ≤ 31) := by
    refine ⟨fun i => db y - 719528 + mb (leap y) i, Lib.hid ?_, Lib.hid fun i h1 h2 => ?_, Lib.hid fun i h1 h2 => ?_, Lib.hid rfl, Lib.hid fun i => ml_bound _ _⟩
    · have : mb (leap (y : Int)) ((1 : Nat) : Int) = 0 := by cases leap (y : Int) <;> decide
      show db y - 719528 + mb (leap y) ((1 : Nat) : Int) = _
      rw [this]; omega
    · have := mb_bound (leap (y : Int)) i (by omega) (by omega)
      show -719528 ≤ db y - 719528 + mb (leap y) i ∧ db y - 719528 + mb (leap y) i ≤ 4000000
      omega
    · have := mb_step (leap (y : Int)) i (by omega) (by omega)
      show db y - 719528 + mb (leap y) i + ml (leap y) i = db y - 719528 + mb (leap y) ((i + 1 : Nat) : Int)
      rw [show ((i + 1 : Nat) : Int) = (i : Int) + 1 by omega, this]; omega
  generalize dn y m d = R at *
  have hyi : (y : Int) ≤ 10000 := by omega
  clear hdb hdbe
  go_enter Tryd.func28, Tryd.ntmps28
  go_wp2
  have hv1 : Hid (365 * (y : Int) + ((y : Int) + 3) / 4 - ((y : Int) + 99) / 100 + ((y : Int) + 399) / 400 - 719528 = V 1) := HV0.out.symm
  go_loopw [7, 8] (fun n i wr => ∃ k q : Nat, 1 ≤ k ∧ k ≤ m ∧ i = .int .i64 k ∧ n = .int .i64 (V k) ∧ wr = w.drewN q) (fun _ i _ => 13 - (intOf i).toNat)
  case atStart => exact ⟨1, 0, by omega, by omega, rfl, by rw [← hv1.out], rfl⟩
  case round =>
    obtain ⟨k, q, hk, hkm, rfl, rfl, rfl⟩ := hrel
    have hb := HVb.out k hk (by omega)
    by_cases hlt : k < m
    · have hli : (k : Int) < (m : Int) := by omega
      have HM2 := Lib.hid (HM.out k hk)
      have hs := Lib.hid (HVs.out k hk (by omega))
      have hl := HL.out k
      clear hv1 HV0 HVs HL HVb HVe HM
      generalize ml (leap y) k = L at *
      go_wp2_with fail
      refine (HM2.out _).mono ?_
      rintro e w3 ⟨rfl, q2, rfl⟩
      clear HM2
      go_wp2
      go_roundw
      case rel => exact ⟨k + 1, q + q2, by omega, by omega, by go_num, by rw [← hs.out], by first | rfl | rw [drewN_add]⟩
      case measure => simp [intOf]; omega
    · obtain rfl : k = m := by omega
      have he := Lib.hid HVe.out
      clear hv1 HV0 HVs HL HVb HVe HM
      go_wp2
      go_ret
      exact ⟨by rw [← he.out]; rfl, q, rfl⟩
end Go.Proofs.YtckeefjmamggmaaDoor
