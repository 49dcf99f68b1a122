/-
  Helper: the walks of the statements that go from Date to Days and back, and of the calendar's cycle.
-/
import Derived.Test.YtmnopohjnbpinaaDoorCvLaws
namespace Go.Proofs.YtmnopohjnbpinaaDoor
open Go.RowKit
set_option linter.unusedVariables false

theorem isD_400 (y m d : Int) (h : IsD y m d) (hy : y + 400 ≤ 9999) : IsD (y + 400) m d := by
  unfold IsD at *
  rw [leap_400]
  omega

set_option maxRecDepth 100000 in
set_option maxHeartbeats 2000000 in
theorem walkCivilCycles (w : World) (hT : LTab w) (n : Int) (hn : (Lit.int .i64 n).wf = true) :
    Calls Tryd.prog 8 #[.int .i64 n] w fun e w' => e = .returned (.bool true) ∧ Below w.heap.size w w' := by
  have HA := Lib.hid (awake_any w hT)
  have HT := Lib.hid hT
  clear hT hn
  by_cases hr : -719528 ≤ n ∧ n ≤ 2932896
  · have HD := Lib.hid (fun w hT => date_yes n w hT hr.1 hr.2)
    go_enter Tryd.func8, Tryd.ntmps8
    go_wp2_with fail
    refine HA.out.mono ?_
    rintro e w1 ⟨rfl, h1⟩
    have h1h := Lib.hid h1
    clear h1
    go_wp2_with fail
    refine (HD.out _ (HT.out.below h1h.out HT.out.1)).mono ?_
    rintro e w2 ⟨y, m, d, hd, hdn, rfl, h2⟩
    have h2h : Hid (Below w.heap.size w w2) := Lib.hid (h1h.out.trans (h2.mono h1h.out.size))
    have hT2 := Lib.hid (HT.out.below h2h.out HT.out.1)
    clear h1h h2 HD HA
    have hy0 := hd.1
    have hy1 := hd.2.1
    by_cases hy : 9999 < y + 400
    · have HN := Lib.hid (fun w hT => days_no (y + 400) m d w hT (by unfold IsD; omega))
      clear hd hdn
      go_wp2_with fail
      refine (HN.out _ hT2.out).mono ?_
      rintro e w3 ⟨rfl, q3, rfl⟩
      go_wp2_with fail
      go_ret
      exact ⟨rfl, h2h.out.trans (drewN_below _ _ _ h2h.out.size)⟩
    · have HY := Lib.hid (fun w hT => days_yes (y + 400) m d w hT (isD_400 y m d hd (by omega)))
      rw [dn_400, hdn] at HY
      have HW := Lib.hid (wd_any n)
      have HX := Lib.hid (wd_any (n + 146097))
      rw [wd_cycle] at HX
      have HL := Lib.hid (leap_any y)
      have HM := Lib.hid (leap_any (y + 400))
      rw [leap_400] at HM
      clear hd hdn
      generalize leap y = b at *
      generalize wd n = v at *
      go_wp2_with fail
      refine (HY.out _ hT2.out).mono ?_
      rintro e w3 ⟨rfl, q3, rfl⟩
      go_wp2_with fail
      refine (HX.out _).mono ?_
      rintro e w3 ⟨rfl, q4, rfl⟩
      go_wp2_with fail
      refine (HW.out _).mono ?_
      rintro e w3 ⟨rfl, q5, rfl⟩
      go_wp2_with fail
      refine (HL.out _).mono ?_
      rintro e w3 ⟨rfl, q6, rfl⟩
      go_wp2_with fail
      refine (HM.out _).mono ?_
      rintro e w3 ⟨rfl, q7, rfl⟩
      go_wp2_with fail
      go_ret
      exact ⟨rfl, h2h.out.trans (drewN_below _ _ _ h2h.out.size)⟩
  · have HD := Lib.hid (fun w => date_no n w (by omega))
    go_enter Tryd.func8, Tryd.ntmps8
    go_wp2_with fail
    refine HA.out.mono ?_
    rintro e w1 ⟨rfl, h1⟩
    have h1h := Lib.hid h1
    clear h1
    go_wp2_with fail
    refine (HD.out _).mono ?_
    rintro e w2 ⟨rfl, h2⟩
    have h2h : Hid (Below w.heap.size w w2) := Lib.hid (h1h.out.trans (h2.mono h1h.out.size))
    clear h1h h2
    go_wp2_with fail
    go_ret
    exact ⟨rfl, h2h.out⟩

/-- the box of a date of three small numbers -/
def B3 (w : World) (n : Nat) (x y z : Int) : Prop := w.heap[n]? = some (.cells #[.int .i16 x, .int .i16 y, .int .i16 z] 35 (0, 0))
theorem B3.facts {w : World} {n : Nat} {x y z : Int} (h : B3 w n x y z) : w.cell? ⟨n, 0, none⟩ = some (.int .i16 x) ∧ w.cell? ⟨n, 1, none⟩ = some (.int .i16 y) ∧ w.cell? ⟨n, 2, none⟩ = some (.int .i16 z) ∧ n < w.heap.size := by
  unfold B3 at h
  refine ⟨by simp [World.cell?, h], by simp [World.cell?, h], by simp [World.cell?, h], (Array.getElem?_eq_some_iff.1 h).1⟩
theorem B3.below {B : Nat} {w w' : World} {n : Nat} {x y z : Int} (h : B3 w n x y z) (hb : Below B w w') (hn : n < B) : B3 w' n x y z := by
  unfold B3 at *
  rw [hb.block n hn]; exact h
theorem B3.new (w : World) (x y z : Int) : B3 (w.alloc (.cells #[.int .i16 x, .int .i16 y, .int .i16 z] 35)) w.heap.size x y z := heap_alloc_new w _
theorem LTab.alloc {w : World} (h : LTab w) (o : Obj) : LTab (w.alloc o) := h.below ((Below.refl _ w).alloc (Nat.le_refl _) o) h.1

theorem date_back (x y z : Int) (h : IsD x y z) (w : World) (hT : LTab w) : Calls Tryd.prog 15 #[.int .i64 (dn x y z)] w fun e w' => e = .returned (.tuple #[.int .i64 x, .int .i64 y, .int .i64 z, .int .i64 0]) ∧ Below w.heap.size w w' :=
  (date_yes (dn x y z) w hT (dn_bound x y z h).1 (dn_bound x y z h).2).mono fun e w' g => by
    obtain ⟨a, b, c, h1, h2, h3, h4⟩ := g
    obtain ⟨rfl, rfl, rfl⟩ := dn_inj _ _ _ _ _ _ h1 h h2
    exact ⟨h3, h4⟩
set_option maxRecDepth 100000 in
set_option maxHeartbeats 2000000 in
theorem walkCivilTrips (w : World) (hT : LTab w) (n : Int) (hn : (Lit.int .i64 n).wf = true) (x y z : Int) (hx : -32768 ≤ x ∧ x ≤ 32767) (hy : -32768 ≤ y ∧ y ≤ 32767) (hz : -32768 ≤ z ∧ z ≤ 32767) :
    Calls Tryd.prog 5 #[.int .i64 n, .agg #[.int .i16 x, .int .i16 y, .int .i16 z]] w fun e w' => e = .returned (.bool true) ∧ Below w.heap.size w w' := by
  have HA := Lib.hid (fun w hT => awake_any w hT)
  have HD := Lib.hid (date_any n)
  have HY := Lib.hid (fun a b c w hT => days_any a b c w hT)
  have HT := Lib.hid hT
  have hBx := B3.new w x y z
  have hbw : Below w.heap.size w (w.alloc (.cells #[.int .i16 x, .int .i16 y, .int .i16 z] 35)) := (Below.refl _ w).alloc (Nat.le_refl _) _
  have hsz : w.heap.size < (w.alloc (.cells #[.int .i16 x, .int .i16 y, .int .i16 z] 35)).heap.size := by simp
  -- what stands behind a call: the box, and nothing else of the past changed
  have HK : Hid (∀ w', Below (w.heap.size + 1) (w.alloc (.cells #[.int .i16 x, .int .i16 y, .int .i16 z] 35)) w' → LTab w' ∧ B3 w' w.heap.size x y z ∧ Below w.heap.size w w') := Lib.hid fun w' h =>
    have hb := hbw.trans (h.mono (Nat.le_succ _))
    ⟨HT.out.below hb HT.out.1, hBx.below h (Nat.lt_succ_self _), hb⟩
  have hs1 : (w.alloc (.cells #[.int .i16 x, .int .i16 y, .int .i16 z] 35)).heap.size = w.heap.size + 1 := by simp
  have HS1 := Lib.hid hs1
  clear hT hn hBx hbw hsz hs1
  obtain ⟨w0, hw0⟩ : ∃ w0, w0 = w.alloc (.cells #[.int .i16 x, .int .i16 y, .int .i16 z] 35) := ⟨_, rfl⟩
  have HW0 := Lib.hid hw0
  rw [← hw0] at HK HS1
  clear hw0
  go_enter Tryd.func5, Tryd.ntmps5
  go_wp2_with fail
  rw [← HW0.out]
  refine (HA.out w0 (HK.out w0 (Below.refl _ _)).1).mono ?_
  rintro e w1 ⟨rfl, h1⟩
  rw [HS1.out] at h1
  have h1h := Lib.hid h1
  clear h1
  go_wp2_with fail
  refine (HD.out _ (HK.out _ h1h.out).1).mono ?_
  rintro e w2 ⟨a, b, c, f, hf, rfl, h2⟩
  have h2h : Hid (Below (w.heap.size + 1) w0 w2) := Lib.hid (h1h.out.trans (h2.mono (by rw [← HS1.out]; exact h1h.out.size)))
  clear h1h h2 HW0
  rcases hf with ⟨hr, hi, hdn, rfl⟩ | ⟨hr, rfl, rfl, rfl, rfl⟩
  · have HDY := Lib.hid (days_yes a b c w2 (HK.out _ h2h.out).1 hi)
    rw [hdn] at HDY
    clear hi hdn hr
    go_wp2_with fail
    refine HDY.out.mono ?_
    rintro e w3 ⟨rfl, q3, rfl⟩
    have h3h : Hid (Below (w.heap.size + 1) w0 (w2.drewN q3)) := Lib.hid (h2h.out.trans ⟨rfl, rfl, rfl, Nat.le_refl _, fun _ _ => rfl⟩)
    clear HDY h2h
    generalize w2.drewN q3 = w3 at *
    obtain ⟨c0, c1, c2, hlt⟩ := (HK.out _ h3h.out).2.1.facts
    have hb3 := Lib.hid (HK.out _ h3h.out).2.2
    have hT3 := Lib.hid (HK.out _ h3h.out).1
    by_cases hd : IsD x y z
    · have HX := Lib.hid (days_yes x y z w3 hT3.out hd)
      have HE := Lib.hid (date_back x y z hd)
      clear hd hT3
      generalize dn x y z = v at *
      go_wp2_with fail
      refine HX.out.mono ?_
      rintro e w4 ⟨rfl, q4, rfl⟩
      have h4h : Hid (Below (w.heap.size + 1) w0 (w3.drewN q4)) := Lib.hid (h3h.out.trans ⟨rfl, rfl, rfl, Nat.le_refl _, fun _ _ => rfl⟩)
      clear HX h3h hb3 c0 c1 c2 hlt
      generalize w3.drewN q4 = w4 at *
      go_wp2_with fail
      refine (HE.out _ (HK.out _ h4h.out).1).mono ?_
      rintro e w5 ⟨rfl, h5⟩
      have h5h : Hid (Below (w.heap.size + 1) w0 w5) := Lib.hid (h4h.out.trans (h5.mono (by rw [← HS1.out]; exact h4h.out.size)))
      clear h5 h4h HE
      obtain ⟨c0, c1, c2, hlt⟩ := (HK.out _ h5h.out).2.1.facts
      have hb5 := Lib.hid (HK.out _ h5h.out).2.2
      go_wp2_with fail
      go_ret
      exact ⟨rfl, hb5.out⟩
    · have HX := Lib.hid (days_no x y z w3 hT3.out hd)
      clear hd hT3
      go_wp2_with fail
      refine HX.out.mono ?_
      rintro e w4 ⟨rfl, q4, rfl⟩
      go_wp2_with fail
      go_ret
      exact ⟨rfl, hb3.out.trans (drewN_below _ _ _ hb3.out.size)⟩
  · clear hr
    have h3h := h2h
    clear h2h
    generalize w2 = w3 at *
    obtain ⟨c0, c1, c2, hlt⟩ := (HK.out _ h3h.out).2.1.facts
    have hb3 := Lib.hid (HK.out _ h3h.out).2.2
    have hT3 := Lib.hid (HK.out _ h3h.out).1
    by_cases hd : IsD x y z
    · have HX := Lib.hid (days_yes x y z w3 hT3.out hd)
      have HE := Lib.hid (date_back x y z hd)
      clear hd hT3
      generalize dn x y z = v at *
      go_wp2_with fail
      refine HX.out.mono ?_
      rintro e w4 ⟨rfl, q4, rfl⟩
      have h4h : Hid (Below (w.heap.size + 1) w0 (w3.drewN q4)) := Lib.hid (h3h.out.trans ⟨rfl, rfl, rfl, Nat.le_refl _, fun _ _ => rfl⟩)
      clear HX h3h hb3 c0 c1 c2 hlt
      generalize w3.drewN q4 = w4 at *
      go_wp2_with fail
      refine (HE.out _ (HK.out _ h4h.out).1).mono ?_
      rintro e w5 ⟨rfl, h5⟩
      have h5h : Hid (Below (w.heap.size + 1) w0 w5) := Lib.hid (h4h.out.trans (h5.mono (by rw [← HS1.out]; exact h4h.out.size)))
      clear h5 h4h HE
      obtain ⟨c0, c1, c2, hlt⟩ := (HK.out _ h5h.out).2.1.facts
      have hb5 := Lib.hid (HK.out _ h5h.out).2.2
      go_wp2_with fail
      go_ret
      exact ⟨rfl, hb5.out⟩
    · have HX := Lib.hid (days_no x y z w3 hT3.out hd)
      clear hd hT3
      go_wp2_with fail
      refine HX.out.mono ?_
      rintro e w4 ⟨rfl, q4, rfl⟩
      go_wp2_with fail
      go_ret
      exact ⟨rfl, hb3.out.trans (drewN_below _ _ _ hb3.out.size)⟩
end Go.Proofs.YtmnopohjnbpinaaDoor
