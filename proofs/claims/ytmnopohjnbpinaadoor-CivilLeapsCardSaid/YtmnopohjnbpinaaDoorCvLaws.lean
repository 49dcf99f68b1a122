/-
  Helper: the walks of the statements about the calendar that speak of Days, Date and weekdays against the reference.
-/
import Derived.Test.YtmnopohjnbpinaaDoorCvRef
namespace Go.Proofs.YtmnopohjnbpinaaDoor
open Go.RowKit
set_option linter.unusedVariables false

theorem ex_isD1 : IsD 2026 11 16 := by unfold IsD; decide
theorem ex_dn1 : dn 2026 11 16 = 20773 := by decide
theorem ex_isD2 : IsD 1969 12 31 := by unfold IsD; decide
theorem ex_dn2 : dn 1969 12 31 = -1 := by decide
theorem ex_wd : wd 20773 = 0 := by decide
theorem below_q {w w' : World} (h : ∃ q, w' = w.drewN q) : Below w.heap.size w w' := by obtain ⟨q, rfl⟩ := h; exact below_new _ _

set_option maxRecDepth 100000 in
set_option maxHeartbeats 2000000 in
theorem awake_any (w : World) (hT : LTab w) : Calls Tryd.prog 10 #[] w fun e w' => e = .returned (.bool true) ∧ Below w.heap.size w w' := by
  have HD : Hid (∀ w : World, LTab w → Calls Tryd.prog 11 #[.int .i64 2026, .int .i64 11, .int .i64 16] w fun e w' => e = .returned (.tuple #[.int .i64 20773, .int .i64 0]) ∧ Below w.heap.size w w') := Lib.hid fun w hT => (days_yes 2026 11 16 w hT ex_isD1).mono fun e w' h => ⟨h.1.trans (by rw [ex_dn1]), below_q h.2⟩
  have HE : Hid (∀ w : World, LTab w → Calls Tryd.prog 15 #[.int .i64 (-1)] w fun e w' => e = .returned (.tuple #[.int .i64 1969, .int .i64 12, .int .i64 31, .int .i64 0]) ∧ Below w.heap.size w w') := Lib.hid fun w hT => (date_yes (-1) w hT (by omega) (by omega)).mono fun e w' h => by
    obtain ⟨y, m, d, h1, h2, h3, h4⟩ := h
    obtain ⟨rfl, rfl, rfl⟩ := dn_inj _ _ _ _ _ _ h1 ex_isD2 (h2.trans ex_dn2.symm)
    exact ⟨h3, h4⟩
  have HW : Hid (∀ w : World, Calls Tryd.prog 17 #[.int .i64 20773] w fun e w' => e = .returned (.int .i64 0) ∧ Below w.heap.size w w') := Lib.hid fun w => (wd_any 20773 w).mono fun e w' h => ⟨h.1.trans (by rw [ex_wd]), below_q h.2⟩
  have HT := Lib.hid hT
  clear hT
  go_enter Tryd.func10, Tryd.ntmps10
  go_wp2_with fail
  refine (HD.out _ HT.out).mono ?_
  rintro e w1 ⟨rfl, h1⟩
  have h1h := Lib.hid h1
  clear h1
  go_wp2_with fail
  refine (HE.out _ (HT.out.below h1h.out HT.out.1)).mono ?_
  rintro e w2 ⟨rfl, h2⟩
  have h2h : Hid (Below w.heap.size w w2) := Lib.hid (h1h.out.trans (h2.mono h1h.out.size))
  clear h1h h2
  go_wp2_with fail
  refine (HW.out _).mono ?_
  rintro e w3 ⟨rfl, h3⟩
  have h3h : Hid (Below w.heap.size w w3) := Lib.hid (h2h.out.trans (h3.mono h2h.out.size))
  clear h2h h3
  go_wp2_with fail
  go_ret
  exact ⟨rfl, h3h.out⟩

/-- Days, whatever the three numbers -/
def DaysP (y m d : Int) (w : World) (e : Ending) (w' : World) : Prop := ∃ n f, ((IsD y m d ∧ n = dn y m d ∧ f = 0) ∨ (¬ IsD y m d ∧ n = 0 ∧ f = 13)) ∧ e = .returned (.tuple #[.int .i64 n, .int .i64 f]) ∧ Below w.heap.size w w'
theorem days_any (y m d : Int) (w : World) (hT : LTab w) : Calls Tryd.prog 11 #[.int .i64 y, .int .i64 m, .int .i64 d] w (DaysP y m d w) := by
  by_cases h : IsD y m d
  · exact (days_yes y m d w hT h).mono fun e w' g => ⟨_, _, .inl ⟨h, rfl, rfl⟩, g.1, below_q g.2⟩
  · exact (days_no y m d w hT h).mono fun e w' g => ⟨_, _, .inr ⟨h, rfl, rfl⟩, g.1, below_q g.2⟩
theorem rdays_any (y m d : Int) (w : World) : Calls Tryd.prog 12 #[.int .i64 y, .int .i64 m, .int .i64 d] w (DaysP y m d w) := by
  by_cases h : IsD y m d
  · exact (rdays_yes y m d w h).mono fun e w' g => ⟨_, _, .inl ⟨h, rfl, rfl⟩, g.1, below_q g.2⟩
  · exact (rdays_no y m d w h).mono fun e w' g => ⟨_, _, .inr ⟨h, rfl, rfl⟩, g.1, below_q g.2⟩
theorem DaysP.same {y m d n f : Int} (h : (IsD y m d ∧ n = dn y m d ∧ f = 0) ∨ (¬ IsD y m d ∧ n = 0 ∧ f = 13)) (n' f' : Int) (h' : (IsD y m d ∧ n' = dn y m d ∧ f' = 0) ∨ (¬ IsD y m d ∧ n' = 0 ∧ f' = 13)) : n' = n ∧ f' = f := by
  rcases h with ⟨h, rfl, rfl⟩ | ⟨h, rfl, rfl⟩ <;> rcases h' with ⟨g, rfl, rfl⟩ | ⟨g, rfl, rfl⟩ <;> first | exact ⟨rfl, rfl⟩ | exact absurd ‹IsD y m d› ‹¬ IsD y m d›

set_option maxRecDepth 100000 in
set_option maxHeartbeats 2000000 in
theorem walkCivilDays (w : World) (hT : LTab w) (y : Int) (hy : (Lit.int .i64 y).wf = true) (m : Int) (hm : (Lit.int .i64 m).wf = true) (d : Int) (hd : (Lit.int .i64 d).wf = true) :
    Calls Tryd.prog 3 #[.int .i64 y, .int .i64 m, .int .i64 d] w fun e w' => e = .returned (.bool true) ∧ Below w.heap.size w w' := by
  have HA := Lib.hid (awake_any w hT)
  have HD := Lib.hid (days_any y m d)
  have HR := Lib.hid (rdays_any y m d)
  have HL := Lib.hid (leap_any y)
  have HM := Lib.hid (rleap_any y)
  have HT := Lib.hid hT
  clear hT hy hm hd
  generalize leap y = b at *
  go_enter Tryd.func3, Tryd.ntmps3
  go_wp2_with fail
  refine HA.out.mono ?_
  rintro e w1 ⟨rfl, h1⟩
  have h1h := Lib.hid h1
  clear h1
  go_wp2_with fail
  refine (HD.out _ (HT.out.below h1h.out HT.out.1)).mono ?_
  rintro e w2 ⟨n, f, hnf, rfl, h2⟩
  have h2h : Hid (Below w.heap.size w w2) := Lib.hid (h1h.out.trans (h2.mono h1h.out.size))
  have HS := Lib.hid (DaysP.same hnf)
  clear h1h h2 hnf
  go_wp2_with fail
  refine (HR.out _).mono ?_
  rintro e w3 ⟨n', f', hnf, rfl, h3⟩
  obtain ⟨rfl, rfl⟩ := HS.out _ _ hnf
  have h3h : Hid (Below w.heap.size w w3) := Lib.hid (h2h.out.trans (h3.mono h2h.out.size))
  clear h2h h3 hnf HS
  go_wp2_with fail
  refine (HL.out _).mono ?_
  rintro e w4 ⟨rfl, q4, rfl⟩
  go_wp2_with fail
  refine (HM.out _).mono ?_
  rintro e w5 ⟨rfl, q5, rfl⟩
  go_wp2_with fail
  go_ret
  exact ⟨rfl, h3h.out.trans (drewN_below _ _ _ h3h.out.size)⟩

/-- Date, whatever the number -/
def DateQ (n : Int) (w : World) (e : Ending) (w' : World) : Prop := ∃ y m d f, (((-719528 ≤ n ∧ n ≤ 2932896) ∧ IsD y m d ∧ dn y m d = n ∧ f = 0) ∨ (¬ (-719528 ≤ n ∧ n ≤ 2932896) ∧ y = 0 ∧ m = 0 ∧ d = 0 ∧ f = 13)) ∧ e = .returned (.tuple #[.int .i64 y, .int .i64 m, .int .i64 d, .int .i64 f]) ∧ Below w.heap.size w w'
theorem date_any (n : Int) (w : World) (hT : LTab w) : Calls Tryd.prog 15 #[.int .i64 n] w (DateQ n w) := by
  by_cases h : -719528 ≤ n ∧ n ≤ 2932896
  · exact (date_yes n w hT h.1 h.2).mono fun e w' ⟨y, m, d, h1, h2, h3, h4⟩ => ⟨y, m, d, 0, .inl ⟨h, h1, h2, rfl⟩, h3, h4⟩
  · exact (date_no n w (by omega)).mono fun e w' g => ⟨0, 0, 0, 13, .inr ⟨h, rfl, rfl, rfl, rfl⟩, g.1, g.2⟩
theorem rdate_any (n : Int) (w : World) : Calls Tryd.prog 16 #[.int .i64 n] w (DateQ n w) := by
  by_cases h : -719528 ≤ n ∧ n ≤ 2932896
  · exact (rdate_yes n w h.1 h.2).mono fun e w' ⟨y, m, d, h1, h2, h3, h4⟩ => ⟨y, m, d, 0, .inl ⟨h, h1, h2, rfl⟩, h3, h4⟩
  · exact (rdate_no n w (by omega)).mono fun e w' g => ⟨0, 0, 0, 13, .inr ⟨h, rfl, rfl, rfl, rfl⟩, g.1, g.2⟩
theorem DateQ.same {n y m d f : Int} (h : ((-719528 ≤ n ∧ n ≤ 2932896) ∧ IsD y m d ∧ dn y m d = n ∧ f = 0) ∨ (¬ (-719528 ≤ n ∧ n ≤ 2932896) ∧ y = 0 ∧ m = 0 ∧ d = 0 ∧ f = 13)) (y' m' d' f' : Int)
    (h' : ((-719528 ≤ n ∧ n ≤ 2932896) ∧ IsD y' m' d' ∧ dn y' m' d' = n ∧ f' = 0) ∨ (¬ (-719528 ≤ n ∧ n ≤ 2932896) ∧ y' = 0 ∧ m' = 0 ∧ d' = 0 ∧ f' = 13)) : y' = y ∧ m' = m ∧ d' = d ∧ f' = f := by
  rcases h with ⟨h, a, b, rfl⟩ | ⟨h, rfl, rfl, rfl, rfl⟩ <;> rcases h' with ⟨g, a', b', rfl⟩ | ⟨g, rfl, rfl, rfl, rfl⟩
  · obtain ⟨rfl, rfl, rfl⟩ := dn_inj _ _ _ _ _ _ a' a (b'.trans b.symm); exact ⟨rfl, rfl, rfl, rfl⟩
  · exact absurd h g
  · exact absurd g h
  · exact ⟨rfl, rfl, rfl, rfl⟩

set_option maxRecDepth 100000 in
set_option maxHeartbeats 2000000 in
theorem walkCivilDates (w : World) (hT : LTab w) (n : Int) (hn : (Lit.int .i64 n).wf = true) :
    Calls Tryd.prog 4 #[.int .i64 n] w fun e w' => e = .returned (.bool true) ∧ Below w.heap.size w w' := by
  have HA := Lib.hid (awake_any w hT)
  have HD := Lib.hid (date_any n)
  have HR := Lib.hid (rdate_any n)
  have HT := Lib.hid hT
  clear hT hn
  go_enter Tryd.func4, Tryd.ntmps4
  go_wp2_with fail
  refine HA.out.mono ?_
  rintro e w1 ⟨rfl, h1⟩
  have h1h := Lib.hid h1
  clear h1
  go_wp2_with fail
  refine (HD.out _ (HT.out.below h1h.out HT.out.1)).mono ?_
  rintro e w2 ⟨y, m, d, f, hf, rfl, h2⟩
  have h2h : Hid (Below w.heap.size w w2) := Lib.hid (h1h.out.trans (h2.mono h1h.out.size))
  have HS := Lib.hid (DateQ.same hf)
  clear h1h h2 hf
  go_wp2_with fail
  refine (HR.out _).mono ?_
  rintro e w3 ⟨y', m', d', f', hf, rfl, h3⟩
  obtain ⟨rfl, rfl, rfl, rfl⟩ := HS.out _ _ _ _ hf
  have h3h : Hid (Below w.heap.size w w3) := Lib.hid (h2h.out.trans (h3.mono h2h.out.size))
  clear h2h h3 hf HS
  go_wp2_with fail
  go_ret
  exact ⟨rfl, h3h.out⟩

set_option maxRecDepth 100000 in
set_option maxHeartbeats 2000000 in
theorem walkCivilWeeks (w : World) (hT : LTab w) (n : Int) (hn : (Lit.int .i64 n).wf = true) :
    Calls Tryd.prog 6 #[.int .i64 n] w fun e w' => e = .returned (.bool true) ∧ Below w.heap.size w w' := by
  have hb : -9223372036854775808 ≤ n ∧ n ≤ 9223372036854775807 := by
    simp only [Lit.wf, Bool.and_eq_true, decide_eq_true_eq] at hn
    exact hn
  have HA := Lib.hid (awake_any w hT)
  have HW := Lib.hid (wd_any n)
  have HR := Lib.hid (rwd_any n)
  have HN := Lib.hid (wd_any (n + 1))
  have hwn := Lib.hid (wd_next n)
  have hw : 0 ≤ wd n ∧ wd n ≤ 6 := by unfold wd; omega
  clear hT hn
  generalize wd (n + 1) = v at *
  generalize wd n = u at *
  by_cases hm : n = 9223372036854775807
  · subst hm
    go_enter Tryd.func6, Tryd.ntmps6
    go_wp2_with fail
    refine HA.out.mono ?_
    rintro e w1 ⟨rfl, h1⟩
    have h1h := Lib.hid h1
    clear h1
    go_wp2_with fail
    refine (HW.out _).mono ?_
    rintro e w2 ⟨rfl, q2, rfl⟩
    go_wp2_with fail
    refine (HR.out _).mono ?_
    rintro e w3 ⟨rfl, q3, rfl⟩
    go_wp2_with fail
    go_ret
    exact ⟨rfl, h1h.out.trans (drewN_below _ _ _ h1h.out.size)⟩
  · have hv : v = (u + 1) % 7 := hwn.out
    subst hv
    have hne : (n == 9223372036854775807) = false := by rw [beq_eq_false_iff_ne]; exact hm
    have hn2 : n ≤ 9223372036854775806 := by omega
    go_enter Tryd.func6, Tryd.ntmps6
    go_wp2_with fail
    refine HA.out.mono ?_
    rintro e w1 ⟨rfl, h1⟩
    have h1h := Lib.hid h1
    clear h1
    go_wp2_with fail
    refine (HW.out _).mono ?_
    rintro e w2 ⟨rfl, q2, rfl⟩
    go_wp2_with fail
    refine (HR.out _).mono ?_
    rintro e w3 ⟨rfl, q3, rfl⟩
    go_wp2_with fail
    refine (HN.out _).mono ?_
    rintro e w4 ⟨rfl, q4, rfl⟩
    go_wp2_with fail
    go_ret
    exact ⟨rfl, h1h.out.trans (drewN_below _ _ _ h1h.out.size)⟩

set_option maxRecDepth 100000 in
set_option maxHeartbeats 2000000 in
theorem walkCivilLeaps (w : World) (hT : LTab w) (n : Int) (hn : (Lit.int .i64 n).wf = true) :
    Calls Tryd.prog 9 #[.int .i64 n] w fun e w' => e = .returned (.bool true) ∧ Below w.heap.size w w' := by
  have HA := Lib.hid (awake_any w hT)
  have HT := Lib.hid hT
  clear hT hn
  by_cases hr : n < 0 ∨ 9999 < n
  · have HD := Lib.hid (fun w hT => days_no n 2 28 w hT (by unfold IsD; omega))
    rcases hr with hr | hr
    · go_enter Tryd.func9, Tryd.ntmps9
      go_wp2_with fail
      refine HA.out.mono ?_
      rintro e w1 ⟨rfl, h1⟩
      have h1h := Lib.hid h1
      clear h1
      go_wp2_with fail
      refine (HD.out _ (HT.out.below h1h.out HT.out.1)).mono ?_
      rintro e w2 ⟨rfl, q2, rfl⟩
      go_wp2_with fail
      go_ret
      exact ⟨rfl, h1h.out.trans (drewN_below _ _ _ h1h.out.size)⟩
    · have hr2 : ¬ n < 0 := by omega
      go_enter Tryd.func9, Tryd.ntmps9
      go_wp2_with fail
      refine HA.out.mono ?_
      rintro e w1 ⟨rfl, h1⟩
      have h1h := Lib.hid h1
      clear h1
      go_wp2_with fail
      refine (HD.out _ (HT.out.below h1h.out HT.out.1)).mono ?_
      rintro e w2 ⟨rfl, q2, rfl⟩
      go_wp2_with fail
      go_ret
      exact ⟨rfl, h1h.out.trans (drewN_below _ _ _ h1h.out.size)⟩
  · have hr1 : ¬ n < 0 := by omega
    have hr2 : ¬ 9999 < n := by omega
    have hb := db_bound n (by omega) (by omega)
    have i1 : IsD n 1 1 := by unfold IsD ml; omega
    have i2 : IsD n 12 31 := by unfold IsD ml; omega
    have i3 : leap n = true → IsD n 2 29 := fun h => by unfold IsD ml; rw [h]; simp; omega
    have i4 : leap n = false → ¬ IsD n 2 29 := fun h => by unfold IsD ml; rw [h]; simp
    have e1 : dn n 1 1 = db n - 719528 := by unfold dn mb; simp
    have e2 : dn n 12 31 = db n - 719528 + (if leap n then 365 else 364) := by unfold dn mb; cases leap n <;> simp <;> omega
    have HF := Lib.hid (fun w hT => days_yes n 1 1 w hT i1)
    have HG := Lib.hid (fun w hT => days_yes n 12 31 w hT i2)
    have HL := Lib.hid (leap_any n)
    rw [e1] at HF
    rw [e2] at HG
    have HE := Lib.hid (fun w hT (h : leap n = true) => days_yes n 2 29 w hT (i3 h))
    have HN := Lib.hid (fun w hT (h : leap n = false) => days_no n 2 29 w hT (i4 h))
    clear i1 i2 i3 i4 e1 e2
    generalize db n = D at *
    generalize dn n 2 29 = x at *
    generalize leap n = b at *
    cases b
    all_goals
      simp only [Bool.false_eq_true, if_false, if_true] at HG
      go_enter Tryd.func9, Tryd.ntmps9
      go_wp2_with fail
      refine HA.out.mono ?_
      rintro e w1 ⟨rfl, h1⟩
      have h1h := Lib.hid h1
      have hT1 := Lib.hid (HT.out.below h1 HT.out.1)
      clear h1
      go_wp2_with fail
      first | refine (HE.out _ hT1.out (by first | rfl | trivial)).mono ?_ | refine (HN.out _ hT1.out (by first | rfl | trivial)).mono ?_
      rintro e w2 ⟨rfl, q2, rfl⟩
      go_wp2_with fail
      refine (HF.out _ (hT1.out.drewN _)).mono ?_
      rintro e w2 ⟨rfl, q3, rfl⟩
      go_wp2_with fail
      refine (HG.out _ (hT1.out.drewN _)).mono ?_
      rintro e w2 ⟨rfl, q4, rfl⟩
      go_wp2_with fail
      refine (HL.out _).mono ?_
      rintro e w2 ⟨rfl, q5, rfl⟩
      go_wp2_with fail
      refine (HL.out _).mono ?_
      rintro e w2 ⟨rfl, q6, rfl⟩
      go_wp2_with fail
      go_ret
      refine ⟨?_, h1h.out.trans (drewN_below _ _ _ h1h.out.size)⟩
      first | (show Ending.returned (.bool (D - 719528 + 364 - (D - 719528) == 364)) = _; rw [show (D - 719528 + 364 - (D - 719528) == 364) = true by rw [beq_iff_eq]; omega]) | (show Ending.returned (.bool (D - 719528 + 365 - (D - 719528) == 365)) = _; rw [show (D - 719528 + 365 - (D - 719528) == 365) = true by rw [beq_iff_eq]; omega])
end Go.Proofs.YtmnopohjnbpinaaDoor
