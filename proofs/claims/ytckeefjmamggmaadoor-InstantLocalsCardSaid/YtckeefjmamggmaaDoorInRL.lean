/-
  Helper: the walk of the reference's ReadLocal.
-/
import Derived.Test.YtckeefjmamggmaaDoorInRI
import Derived.Test.YtckeefjmamggmaaDoorInShl
namespace Go.Proofs.YtckeefjmamggmaaDoor
open Go.RowKit
set_option linter.unusedVariables false
set_option linter.unusedSimpArgs false

set_option maxRecDepth 100000 in
set_option maxHeartbeats 4000000 in
theorem rrl_no (s : ByteArray) (hs : s.size ≤ 100000) (T : RT) (ok : Bool) (hR : readR s.data.toList = (T, ok)) (hz : ok = true → T.zn = true) (Po : Ending → World → Prop) (w : World)
    (HP : Hid (∀ w', Below w.heap.size w w' → Po (.returned (.tuple #[.string ⟨#[]⟩, .int .i64 3])) w')) : Calls Tryd.prog 10 #[.string s] w Po := by
  have HRd := Lib.hid (rread_any s hs w)
  rw [hR] at HRd
  replace HRd : Hid (Calls Tryd.prog 11 #[.string s] w fun e w' => e = .returned (.tuple #[.agg T.v.toArray, .bool ok]) ∧ Below w.heap.size w w') := HRd
  clear hR hs
  have hzT := zeroT
  go_enter Tryd.func10, Tryd.ntmps10
  go_wp2_with fail
  refine HRd.out.mono ?_
  rintro e w1 ⟨rfl, q1⟩
  obtain ⟨M, W, hM, hW, b0, b1, hbl⟩ := tbox w1 T
  have hb := Lib.hid (hbl _ _ q1 (by have := q1.size; omega))
  have B0 := Lib.hid b0
  have B1 := Lib.hid b1
  clear q1 HRd hbl b0 b1
  go_upto_region 2 with (refine wpList_store_row rfl 30 (.tmp 4) (.tmp 9) rfl M _ rfl rfl 30 _ B0.out (rt_i T) (rt_z _ T) (rt_one T) ?_)
  generalize W.setRow M T.v.toArray = wc at *
  clear hW hM
  cases ok with
  | false =>
    have hfin := Lib.hid (HP.out _ hb.out)
    clear HP hb
    go_wp2
    exact hfin.out
  | true =>
    have hz2 := hz rfl
    have c2 := B1.out.cell 2 (.bool T.zn) rfl
    rw [hz2] at c2
    have hfin := Lib.hid (HP.out _ hb.out)
    clear HP hb
    go_wp2
    exact hfin.out
set_option maxRecDepth 100000 in
set_option maxHeartbeats 8000000 in
theorem rrl_yes (s : ByteArray) (hs : s.size ≤ 100000) (T : RT) (hR : readR s.data.toList = (T, true)) (hz : T.zn = false) (Po : Ending → World → Prop) (w : World) (ir : Bool) (tx : ByteArray)
    (HI : Hid (∀ W, Calls Tryd.prog 18 #[.agg T.v.toArray] W fun e w' => e = .returned (.bool ir) ∧ Below W.heap.size W w'))
    (HS : ir = true → Hid (∀ W, Calls Tryd.prog 19 #[.agg T.v.toArray] W fun e w' => e = .returned (.string tx) ∧ Below W.heap.size W w'))
    (HE : ir = false → Hid (∀ w', Below w.heap.size w w' → Po (.returned (.tuple #[.string ⟨#[]⟩, .int .i64 13])) w'))
    (HP : ir = true → Hid (∀ w', Below w.heap.size w w' → Po (.returned (.tuple #[.string tx, .int .i64 0])) w')) : Calls Tryd.prog 10 #[.string s] w Po := by
  have HRd := Lib.hid (rread_any s hs w)
  rw [hR] at HRd
  replace HRd : Hid (Calls Tryd.prog 11 #[.string s] w fun e w' => e = .returned (.tuple #[.agg T.v.toArray, .bool true]) ∧ Below w.heap.size w w') := HRd
  clear hR hs
  have hzT := zeroT
  go_enter Tryd.func10, Tryd.ntmps10
  go_wp2_with fail
  refine HRd.out.mono ?_
  rintro e w1 ⟨rfl, q1⟩
  obtain ⟨M, W, hM, hW, b0, b1, hbl⟩ := tbox w1 T
  have hb := Lib.hid (hbl _ _ q1 (by have := q1.size; omega))
  have B0 := Lib.hid b0
  have B1 := Lib.hid b1
  clear q1 HRd hbl b0 b1
  go_upto_region 2 with (refine wpList_store_row rfl 30 (.tmp 4) (.tmp 9) rfl M _ rfl rfl 30 _ B0.out (rt_i T) (rt_z _ T) (rt_one T) ?_)
  generalize W.setRow M T.v.toArray = wc at *
  clear hW hM B0
  have c2 := B1.out.cell 2 (.bool T.zn) rfl
  rw [hz] at c2
  go_wp2_with (refine wpList_load_row rfl 30 (.tmp 4) rfl M rfl 30 _ _ _ B1.out Tryd.underlying30 rfl (rt_i T) ?_)
  refine (HI.out _).mono ?_
  rintro e w2 ⟨rfl, q2⟩
  have B2 := Lib.hid (B1.out.go q2 B1.out.lt)
  have hb2 := bt hb q2
  clear q2 hb B1 c2 HI
  cases ir with
  | false =>
    have hfin := Lib.hid ((HE rfl).out _ hb2.out)
    clear HE HP HS hb2
    go_wp2
    exact hfin.out
  | true =>
    have HS1 := HS rfl
    have HP1 := HP rfl
    clear HS HP HE
    go_wp2_with (refine wpList_load_row rfl 30 (.tmp 4) rfl M rfl 30 _ _ _ B2.out Tryd.underlying30 rfl (rt_i T) ?_)
    refine (HS1.out _).mono ?_
    rintro e w3 ⟨rfl, q3⟩
    have hfin := Lib.hid (HP1.out _ (bt hb2 q3).out)
    clear q3 hb2 B2 HS1 HP1
    go_wp2
    exact hfin.out
theorem locNo (r : Rd) (h : r.1 = false ∨ r.2.2.2.2 ≠ 0) : locF r = (0, z8, 0, 3) := by
  unfold locF
  rw [if_neg]
  rintro ⟨a, b⟩
  rcases h with h | h
  · rw [h] at a; cases a
  · exact h b
theorem irLoc (sh y m d h i k : Nat) (hy : y ≤ 9999) (hsh : sh = 1 ∨ sh = 2 ∨ sh = 3) (h2 : sh = 2 → m = 0 ∧ d = 0 ∧ y = 0) : IR sh [y, m, d, h, i, k, 0, 0] ↔ (((decide (sh = 1 ∨ sh = 3)) = true → dtOk y m d) ∧ tmOk false h i k) := by
  constructor
  · rintro ⟨a, b⟩
    have a3 : h ≤ 23 := a 3 (by omega)
    have a4 : i ≤ 59 := a 4 (by omega)
    have a5 : k ≤ 59 := a 5 (by omega)
    refine ⟨fun g => ?_, rfl, a3, a4, a5⟩
    have g2 := of_decide_eq_true g
    obtain ⟨b1, b2, b3, b4, b5, b6⟩ := b.resolve_left (by omega)
    replace b3 : (1 : Int) ≤ (m : Int) := b3
    replace b4 : (m : Int) ≤ 12 := b4
    replace b5 : (1 : Int) ≤ (d : Int) := b5
    exact ⟨by omega, by omega, by omega, b6⟩
  · rintro ⟨g, b1, b2, b3, b4⟩
    by_cases c : sh = 2
    · obtain ⟨e1, e2, e3⟩ := h2 c
      exact ⟨lims _ hy (show m ≤ 12 by omega) (show d ≤ 31 by omega) b2 b3 b4 (Nat.zero_le _) (Nat.zero_le _), .inl c⟩
    · obtain ⟨a1, a2, a3, a4⟩ := g (decide_eq_true (by omega))
      have hml := (ml_bound (leap y) m).2
      refine ⟨lims _ hy a2 (show d ≤ 31 by omega) b2 b3 b4 (Nat.zero_le _) (Nat.zero_le _), .inr ?_⟩
      show IsD (y : Int) (m : Int) (d : Int)
      exact ⟨by omega, by omega, by omega, by omega, by omega, a4⟩
/-- a local text's three forms -/
def Loc3 (l : List UInt8) (sh : Nat) (f : List Nat) (na : Nat) : Prop := (sh = 1 ∨ sh = 2 ∨ sh = 3) ∧ rd l = (true, sh, f, na, 0) ∧ readR l = (tOf sh f na 0, true) ∧ na ≤ 999999999 ∧ f.getD 0 0 ≤ 9999 ∧
  (∀ W, Calls Tryd.prog 18 #[.agg (tOf sh f na 0).v.toArray] W fun e w' => e = .returned (.bool (@decide (IR sh f) (Classical.propDecidable _))) ∧ Below W.heap.size W w') ∧
  (∀ W, Calls Tryd.prog 19 #[.agg (tOf sh f na 0).v.toArray] W fun e w' => e = .returned (.string (mkB (canL sh f na))) ∧ Below W.heap.size W w')
theorem dec_iff (P Q : Prop) (a : Decidable P) (b : Decidable Q) (h : P ↔ Q) : @decide P a = @decide Q b := decide_eq_decide.2 h
set_option maxHeartbeats 1000000 in
theorem loc_cls (l : List UInt8) : (locF (rd l) = (0, z8, 0, 3) ∧ ((readR l).2 = true → (readR l).1.zn = true)) ∨ ∃ sh f na, Loc3 l sh f na := by
  rcases cls l with ⟨h, h2⟩ | ⟨y, m, d, hy, hm, hd, h1, h2⟩ | ⟨h, i, k, na, hh, hi, hk, hn, h1, h2⟩ | ⟨y, m, d, h, i, k, na, hy, hm, hd, hh, hi, hk, hn, h1, h2⟩ | ⟨y, m, d, h, i, k, na, v1, v2, zo, hy, hm, hd, hh, hi, hk, hn, hz, hv, hv2, h1, h2⟩
  · refine .inl ⟨locNo _ ?_, fun g => by rw [h2] at g; cases g⟩
    rcases h with h | h
    · exact .inl h
    · exact .inr h.2
  · refine .inr ⟨1, _, 0, .inl rfl, h1, h2, by omega, hy, fun W => ?_, fun W => ?_⟩
    · have := rin_any (decide ((1 : Nat) = 1 ∨ (1 : Nat) = 3)) false false false y m d 0 0 0 0 0 W
      rw [dec_iff _ _ _ (Classical.propDecidable _) (irLoc 1 y m d 0 0 0 hy (.inl rfl) (fun g => by omega)).symm] at this
      exact this
    · exact show_date y m d 0 false hy (by omega) (by omega) W
  · refine .inr ⟨2, _, na, .inr (.inl rfl), h1, h2, hn, Nat.zero_le _, fun W => ?_, fun W => ?_⟩
    · have := rin_any (decide ((2 : Nat) = 1 ∨ (2 : Nat) = 3)) true false false 0 0 0 h i k na 0 W
      rw [dec_iff _ _ _ (Classical.propDecidable _) (irLoc 2 0 0 0 h i k (by omega) (.inr (.inl rfl)) (fun g => ⟨rfl, rfl, rfl⟩)).symm] at this
      exact this
    · exact show_time h i k na 0 false (by omega) (by omega) (by omega) hn W
  · refine .inr ⟨3, _, na, .inr (.inr rfl), h1, h2, hn, hy, fun W => ?_, fun W => ?_⟩
    · have := rin_any (decide ((3 : Nat) = 1 ∨ (3 : Nat) = 3)) true false false y m d h i k na 0 W
      rw [dec_iff _ _ _ (Classical.propDecidable _) (irLoc 3 y m d h i k hy (.inr (.inr rfl)) (fun g => by omega)).symm] at this
      exact this
    · exact show_both y m d h i k na 0 false hy (by omega) (by omega) (by omega) (by omega) (by omega) hn W
  · refine .inl ⟨locNo _ (by rw [h1]; exact .inr hz), fun _ => ?_⟩
    rw [h2]
    show decide (zo ≠ 0) = true
    exact decide_eq_true hz
theorem locYes (sh : Nat) (f : List Nat) (na : Nat) (h : IR sh f) : locF (true, sh, f, na, 0) = (sh, f, na, 0) := by unfold locF; rw [if_pos ⟨rfl, rfl⟩, if_pos h]
theorem locErr (sh : Nat) (f : List Nat) (na : Nat) (h : ¬ IR sh f) : locF (true, sh, f, na, 0) = (0, z8, 0, 13) := by unfold locF; rw [if_pos ⟨rfl, rfl⟩, if_neg h]
set_option maxHeartbeats 1000000 in
theorem rrl_any (s : ByteArray) (hs : s.size ≤ 100000) (w : World) : Calls Tryd.prog 10 #[.string s] w (StrE (locT (locF (rd s.data.toList))) (locF (rd s.data.toList)).2.2.2 w) := by
  rcases loc_cls s.data.toList with ⟨h1, h2⟩ | ⟨sh, f, na, _, h1, h2, _, _, h4, h5⟩
  · rw [h1]
    exact rrl_no s hs _ _ rfl h2 _ w (fun w' hb => ⟨rfl, hb⟩)
  · rw [h1]
    refine rrl_yes s hs _ h2 rfl _ w _ (mkB (canL sh f na)) h4 (fun _ => h5) (fun g => ?_) (fun g => ?_)
    · have g2 := @of_decide_eq_false _ (Classical.propDecidable _) g
      rw [locErr sh f na g2]
      exact fun w' hb => ⟨rfl, hb⟩
    · have g2 := @of_decide_eq_true _ (Classical.propDecidable _) g
      rw [locYes sh f na g2]
      exact fun w' hb => ⟨rfl, hb⟩
end Go.Proofs.YtckeefjmamggmaaDoor
