/-
  Helper: the walk of the reference's ReadInstant.
-/
import Derived.Test.YtckeefjmamggmaaDoorInRd6
import Derived.Test.YtckeefjmamggmaaDoorInTie
import Derived.Test.YtckeefjmamggmaaDoorInLawT
namespace Go.Proofs.YtckeefjmamggmaaDoor
open Go.RowKit
set_option linter.unusedVariables false
set_option linter.unusedSimpArgs false

/-- a box of T made last, and what was there before -/
theorem tbox (w1 : World) (t : RT) : ∃ M W, w1.heap.size = M ∧ (w1.alloc (.cells RT.zero.v.toArray 30)) = W ∧ Blk W M 30 RT.zero.v ∧ Blk (W.setRow M t.v.toArray) M 30 t.v ∧ ∀ n w, Below n w w1 → n ≤ M → Below n w (W.setRow M t.v.toArray) := by
  refine ⟨_, _, rfl, rfl, Blk.new w1 _ _, rowB (Blk.new w1 _ _) _, fun n w h hn => ?_⟩
  have h1 : Below n w (w1.alloc (.cells RT.zero.v.toArray 30)) := h.alloc hn _
  exact below_row h1 hn _
set_option maxRecDepth 100000 in
set_option maxHeartbeats 4000000 in
theorem rri_no (s : ByteArray) (hs : s.size ≤ 100000) (T : RT) (ok : Bool) (hR : readR s.data.toList = (T, ok)) (hz : ok = true → T.zn = false) (Po : Ending → World → Prop) (w : World)
    (HP : Hid (∀ w', Below w.heap.size w w' → Po (.returned (.tuple #[.string ⟨#[]⟩, .int .i64 3])) w')) : Calls Tryd.prog 8 #[.string s] w Po := by
  have HRd := Lib.hid (rread_any s hs w)
  rw [hR] at HRd
  replace HRd : Hid (Calls Tryd.prog 11 #[.string s] w fun e w' => e = .returned (.tuple #[.agg T.v.toArray, .bool ok]) ∧ Below w.heap.size w w') := HRd
  clear hR hs
  have hzT := zeroT
  go_enter Tryd.func8, Tryd.ntmps8
  go_wp2_with fail
  refine HRd.out.mono ?_
  rintro e w1 ⟨rfl, q1⟩
  obtain ⟨M, W, hM, hW, b0, b1, hbl⟩ := tbox w1 T
  have hb := Lib.hid (hbl _ _ q1 (by have := q1.size; omega))
  have B0 := Lib.hid b0
  have B1 := Lib.hid b1
  clear q1 HRd hbl b0 b1
  go_upto_region 2 with (refine wpList_store_row rfl 30 (.tmp 4) (.tmp 10) rfl M _ rfl rfl 30 _ B0.out (rt_i T) (rt_z _ T) (rt_one T) ?_)
  generalize W.setRow M T.v.toArray = wc at *
  clear hW hM
  cases ok with
  | false =>
    have hfin := Lib.hid (HP.out _ hb.out)
    clear HP hb
    go_wp2
    exact hfin.out
  | true =>
    have hz2 := hz rfl
    have c2 := B1.out.cell 2 (.bool T.zn) rfl
    rw [hz2] at c2
    have hfin := Lib.hid (HP.out _ hb.out)
    clear HP hb
    go_wp2
    exact hfin.out
set_option maxRecDepth 100000 in
set_option maxHeartbeats 8000000 in
theorem rri_yes (s : ByteArray) (hs : s.size ≤ 100000) (T : RT) (hR : readR s.data.toList = (T, true)) (hz : T.zn = true) (Po : Ending → World → Prop) (w : World) (ir : Bool) (n : Int) (Q : ByteArray → Prop)
    (HI : Hid (∀ W, Calls Tryd.prog 18 #[.agg T.v.toArray] W fun e w' => e = .returned (.bool ir) ∧ Below W.heap.size W w'))
    (HS : ir = true → Hid (∀ W, Calls Tryd.prog 16 #[.agg T.v.toArray] W fun e w' => e = .returned (.int .i64 n) ∧ Below W.heap.size W w'))
    (HO : ir = true → -62167219200 ≤ n → n ≤ 253402300799 → Hid (∀ W, Calls Tryd.prog 20 #[.int .i64 n, .int .i64 T.na] W fun e w' => ∃ (Y : List Value) (tx : ByteArray), Q tx ∧ e = .returned (.agg Y.toArray) ∧ Below W.heap.size W w' ∧ ∀ W2, Calls Tryd.prog 19 #[.agg Y.toArray] W2 fun e w' => e = .returned (.string tx) ∧ Below W2.heap.size W2 w'))
    (HE : ir = false ∨ n < -62167219200 ∨ 253402300799 < n → Hid (∀ w', Below w.heap.size w w' → Po (.returned (.tuple #[.string ⟨#[]⟩, .int .i64 13])) w'))
    (HP : ir = true → -62167219200 ≤ n → n ≤ 253402300799 → Hid (∀ tx w', Q tx → Below w.heap.size w w' → Po (.returned (.tuple #[.string tx, .int .i64 0])) w')) : Calls Tryd.prog 8 #[.string s] w Po := by
  have HRd := Lib.hid (rread_any s hs w)
  rw [hR] at HRd
  replace HRd : Hid (Calls Tryd.prog 11 #[.string s] w fun e w' => e = .returned (.tuple #[.agg T.v.toArray, .bool true]) ∧ Below w.heap.size w w') := HRd
  clear hR hs
  have hzT := zeroT
  go_enter Tryd.func8, Tryd.ntmps8
  go_wp2_with fail
  refine HRd.out.mono ?_
  rintro e w1 ⟨rfl, q1⟩
  obtain ⟨M, W, hM, hW, b0, b1, hbl⟩ := tbox w1 T
  have hb := Lib.hid (hbl _ _ q1 (by have := q1.size; omega))
  have B0 := Lib.hid b0
  have B1 := Lib.hid b1
  clear q1 HRd hbl b0 b1
  go_upto_region 2 with (refine wpList_store_row rfl 30 (.tmp 4) (.tmp 10) rfl M _ rfl rfl 30 _ B0.out (rt_i T) (rt_z _ T) (rt_one T) ?_)
  generalize W.setRow M T.v.toArray = wc at *
  clear hW hM B0
  have c2 := B1.out.cell 2 (.bool T.zn) rfl
  rw [hz] at c2
  go_wp2_with (refine wpList_load_row rfl 30 (.tmp 4) rfl M rfl 30 _ _ _ B1.out Tryd.underlying30 rfl (rt_i T) ?_)
  refine (HI.out _).mono ?_
  rintro e w2 ⟨rfl, q2⟩
  have B2 := Lib.hid (B1.out.go q2 B1.out.lt)
  have hb2 := bt hb q2
  clear q2 hb B1 c2 HI
  cases ir with
  | false =>
    have hfin := Lib.hid ((HE (.inl rfl)).out _ hb2.out)
    clear HE HP HS HO hb2
    go_wp2
    exact hfin.out
  | true =>
    have HS1 := HS rfl
    clear HS
    go_wp2_with (refine wpList_load_row rfl 30 (.tmp 4) rfl M rfl 30 _ _ _ B2.out Tryd.underlying30 rfl (rt_i T) ?_)
    refine (HS1.out _).mono ?_
    rintro e w3 ⟨rfl, q3⟩
    have B3 := Lib.hid (B2.out.go q3 B2.out.lt)
    have hb3 := bt hb2 q3
    clear q3 hb2 B2 HS1
    by_cases n1 : n < -62167219200
    · have hfin := Lib.hid ((HE (.inr (.inl n1))).out _ hb3.out)
      clear HE HP HO hb3
      go_wp2
      exact hfin.out
    by_cases n2 : 253402300799 < n
    · have hfin := Lib.hid ((HE (.inr (.inr n2))).out _ hb3.out)
      clear HE HP HO hb3
      go_wp2
      exact hfin.out
    have HO1 := HO (by trivial) (by omega) (by omega)
    have HP1 := HP (by trivial) (by omega) (by omega)
    clear HO HP HE
    have c9 := B3.out.cell 9 (.int .i64 T.na) rfl
    generalize T.na = na at *
    go_wp2_with fail
    refine (HO1.out _).mono ?_
    rintro e w4 ⟨Y, tx, hQ, rfl, q4, hsh⟩
    have HQ := Lib.hid hQ
    have HSh := Lib.hid hsh
    have hb4 := bt hb3 q4
    clear q4 hb3 hsh HO1 hQ
    go_wp2_with fail
    refine (HSh.out _).mono ?_
    rintro e w5 ⟨rfl, q5⟩
    have hfin := Lib.hid (HP1.out tx _ HQ.out (bt hb4 q5).out)
    clear q5 HP1 HSh hb4 HQ
    go_wp2
    exact hfin.out
theorem ofT_mk (y m d C na : Nat) : mkB (canL 3 [y, m, d, C / 3600, C / 60 % 60, C % 60, 0, 0] na ++ [90]) = ofT y m d C na := by
  unfold ofT; rw [mkB_app]; rfl
theorem momNo (r : Rd) (h : r.1 = false ∨ r.2.1 ≠ 3 ∨ r.2.2.2.2 = 0) : momF r = (0, 0, 3) := by
  unfold momF
  rw [if_neg]
  rintro ⟨a, b, c⟩
  rcases h with h | h | h
  · rw [h] at a; cases a
  · exact h b
  · exact c h
theorem insNo : InsR (0, 0, 3) ⟨#[]⟩ 3 := by unfold InsR; rw [if_neg (by decide)]; exact ⟨rfl, rfl⟩
theorem irIff (y m d h i k v1 v2 zo : Nat) (hy : y ≤ 9999) : IR 3 [y, m, d, h, i, k, v1, v2] ↔ ((dtOk y m d) ∧ tmOk (decide (23 < (v1 : Int) ∨ 59 < (v2 : Int))) h i k) := by
  constructor
  · rintro ⟨a, b⟩
    obtain ⟨b1, b2, b3, b4, b5, b6⟩ := b.resolve_left (by omega)
    have a3 : h ≤ 23 := a 3 (by omega)
    have a4 : i ≤ 59 := a 4 (by omega)
    have a5 : k ≤ 59 := a 5 (by omega)
    have a6 : v1 ≤ 23 := a 6 (by omega)
    have a7 : v2 ≤ 59 := a 7 (by omega)
    replace b3 : (1 : Int) ≤ (m : Int) := b3
    replace b4 : (m : Int) ≤ 12 := b4
    replace b5 : (1 : Int) ≤ (d : Int) := b5
    exact ⟨⟨by omega, by omega, by omega, b6⟩, decide_eq_false (by omega), a3, a4, a5⟩
  · rintro ⟨⟨a1, a2, a3, a4⟩, b1, b2, b3, b4⟩
    have b0 := of_decide_eq_false b1
    have hml := (ml_bound (leap y) m).2
    refine ⟨lims _ hy a2 (show d ≤ 31 by omega) b2 b3 b4 (show v1 ≤ 23 by omega) (show v2 ≤ 59 by omega), .inr ?_⟩
    show IsD (y : Int) (m : Int) (d : Int)
    exact ⟨by omega, by omega, by omega, by omega, by omega, a4⟩
set_option maxHeartbeats 1000000 in
theorem rri_any (s : ByteArray) (hs : s.size ≤ 100000) (w : World) : Calls Tryd.prog 8 #[.string s] w (InsP (momF (rd s.data.toList)) w) := by
  have no : ∀ (T : RT) (ok : Bool), readR s.data.toList = (T, ok) → (ok = true → T.zn = false) → momF (rd s.data.toList) = (0, 0, 3) → Calls Tryd.prog 8 #[.string s] w (InsP (momF (rd s.data.toList)) w) := fun T ok h1 h2 h3 => by
    rw [h3]
    exact rri_no s hs T ok h1 h2 _ w (fun w' h => ⟨_, _, insNo, rfl, h⟩)
  rcases cls s.data.toList with ⟨h, h2⟩ | ⟨y, m, d, hy, hm, hd, h1, h2⟩ | ⟨h, i, k, na, hh, hi, hk, hn, h1, h2⟩ | ⟨y, m, d, h, i, k, na, hy, hm, hd, hh, hi, hk, hn, h1, h2⟩ | ⟨y, m, d, h, i, k, na, v1, v2, zo, hy, hm, hd, hh, hi, hk, hn, hz, hv, hv2, h1, h2⟩
  · refine no _ (readR s.data.toList).2 rfl (fun g => by rw [h2] at g; cases g) (momNo _ ?_)
    rcases h with h | h
    · exact .inl h
    · exact .inr (.inl (by omega))
  · exact no _ _ h2 (fun _ => rfl) (momNo _ (by rw [h1]; exact .inr (.inr rfl)))
  · exact no _ _ h2 (fun _ => rfl) (momNo _ (by rw [h1]; exact .inr (.inr rfl)))
  · exact no _ _ h2 (fun _ => rfl) (momNo _ (by rw [h1]; exact .inr (.inr rfl)))
  · have hmom : momF (rd s.data.toList) = if dtOk y m d ∧ tmOk (decide (23 < (v1 : Int) ∨ 59 < (v2 : Int))) h i k then (sec [y, m, d, h, i, k, v1, v2] zo, na, 0) else (0, 0, 13) := by
      rw [h1]; unfold momF
      rw [if_pos ⟨rfl, rfl, hz⟩]
      by_cases c : dtOk y m d ∧ tmOk (decide (23 < (v1 : Int) ∨ 59 < (v2 : Int))) h i k
      · rw [if_pos c, if_pos ((irIff y m d h i k v1 v2 zo hy).2 c)]
      · rw [if_neg c, if_neg (fun g => c ((irIff y m d h i k v1 v2 zo hy).1 g))]
    have hT : tOf 3 [y, m, d, h, i, k, v1, v2] na zo = ⟨true, true, true, (y : Int), (m : Int), (d : Int), (h : Int), (i : Int), (k : Int), (na : Int), if zo = 45 then -(3600 * (v1 : Int) + 60 * (v2 : Int)) else 3600 * (v1 : Int) + 60 * (v2 : Int), decide (23 < (v1 : Int) ∨ 59 < (v2 : Int))⟩ := by
      unfold tOf
      rw [decide_eq_true hz]
      rfl
    rw [hT] at h2
    have hoff : -400000 ≤ (if zo = 45 then -(3600 * (v1 : Int) + 60 * (v2 : Int)) else 3600 * (v1 : Int) + 60 * (v2 : Int)) ∧ (if zo = 45 then -(3600 * (v1 : Int) + 60 * (v2 : Int)) else 3600 * (v1 : Int) + 60 * (v2 : Int)) ≤ 400000 := by
      split <;> omega
    have hsec : sec [y, m, d, h, i, k, v1, v2] zo = 86400 * dn y m d + 3600 * (h : Int) + 60 * (i : Int) + (k : Int) - (if zo = 45 then -(3600 * (v1 : Int) + 60 * (v2 : Int)) else 3600 * (v1 : Int) + 60 * (v2 : Int)) := by
      unfold sec
      split
      · rename_i c
        show dn y m d * 86400 + (3600 * (h : Int) + 60 * (i : Int) + (k : Int) - -(3600 * (v1 : Int) + 60 * (v2 : Int))) = _
        omega
      · rename_i c
        show dn y m d * 86400 + (3600 * (h : Int) + 60 * (i : Int) + (k : Int) - (3600 * (v1 : Int) + 60 * (v2 : Int))) = _
        omega
    generalize (if zo = 45 then -(3600 * (v1 : Int) + 60 * (v2 : Int)) else 3600 * (v1 : Int) + 60 * (v2 : Int)) = off at *
    generalize decide (23 < (v1 : Int) ∨ 59 < (v2 : Int)) = late at *
    rw [hmom]
    have hi0 := Lib.hid (fun W => rin_any true true true late y m d h i k na off W)
    by_cases c : dtOk y m d ∧ tmOk late h i k
    · rw [if_pos c, hsec]
      obtain ⟨⟨c1, c2, c3, c4⟩, c5, c6, c7, c8⟩ := c
      have hml := (ml_bound (leap (y : Int)) m).2
      have hI : IsD (y : Int) (m : Int) (d : Int) := ⟨by omega, by omega, by omega, by omega, by omega, c4⟩
      have hdb := dn_bound _ _ _ hI
      have hi1 : Hid (∀ W, Calls Tryd.prog 18 #[.agg (RT.v ⟨true, true, true, (y : Int), (m : Int), (d : Int), (h : Int), (i : Int), (k : Int), (na : Int), off, late⟩).toArray] W fun e w' => e = .returned (.bool true) ∧ Below W.heap.size W w') := fun W => by
        have := hi0.out W
        rw [decide_eq_true ⟨fun _ => ⟨c1, c2, c3, c4⟩, c5, c6, c7, c8⟩] at this
        exact this
      have hs1 : Hid (∀ W, Calls Tryd.prog 16 #[.agg (RT.v ⟨true, true, true, (y : Int), (m : Int), (d : Int), (h : Int), (i : Int), (k : Int), (na : Int), off, late⟩).toArray] W fun e w' => e = .returned (.int .i64 (86400 * dn y m d + 3600 * (h : Int) + 60 * (i : Int) + (k : Int) - off)) ∧ Below W.heap.size W w') := fun W => rsec_any _ y m d h i k rfl rfl rfl rfl rfl rfl hy c1 c2 (by omega) (by omega) (by omega) (by omega) hoff.1 hoff.2 (by omega) (by omega) W
      generalize 86400 * dn y m d + 3600 * (h : Int) + 60 * (i : Int) + (k : Int) - off = n at *
      refine rri_yes s hs _ h2 rfl _ w true n (fun tx => OfR n na tx 0) hi1 (fun _ => hs1) (fun _ g1 g2 => ?_) (fun g => ?_) (fun _ g1 g2 => ?_)
      · obtain ⟨D, hD⟩ : ∃ D : Nat, (n + 62167219200) / 86400 = D := ⟨((n + 62167219200) / 86400).toNat, by omega⟩
        obtain ⟨C, hC⟩ : ∃ C : Nat, (n + 62167219200) % 86400 = C := ⟨((n + 62167219200) % 86400).toNat, by omega⟩
        have hC2 : C < 86400 := by omega
        have hnn : n = 86400 * D + C - 62167219200 := by omega
        have hD2 : D ≤ 3652424 := by omega
        intro W
        refine (rof_any D C na n hnn hC2 hD2 hn W).mono ?_
        rintro e w' ⟨y, m, d, hI, hdn, he, hb⟩
        obtain ⟨i0, i1, i2, i3, i4, i5⟩ := hI
        have hml := (ml_bound (leap y) m).2
        have ho : OfR n na (ofT y m d C na) 0 := by
          unfold OfR
          rw [if_neg (by omega), if_neg (by omega)]
          exact ⟨y, m, d, C, ⟨i0, i1, i2, i3, i4, i5⟩, hC2, by omega, by rw [show ((na : Int)).toNat = na by omega], rfl⟩
        refine ⟨_, _, ho, he, hb, fun W2 => ?_⟩
        have hs := show_full y m d (C / 3600) (C / 60 % 60) (C % 60) na 0 false (by omega) (by omega) (by omega) (by omega) (by omega) (by omega) hn W2
        rw [← ofT_mk]
        exact hs
      · refine fun w' hb => ⟨_, _, ?_, rfl, hb⟩
        have g2 : n < -62167219200 ∨ 253402300799 < n := g.resolve_left (by decide)
        show InsR (n, na, 0) ⟨#[]⟩ 13
        unfold InsR
        rw [if_pos rfl]
        show OfR n (na : Int) ⟨#[]⟩ 13
        unfold OfR
        rw [if_neg (by omega), if_pos g2]
        exact ⟨rfl, rfl⟩
      · refine fun tx w' hq hb => ⟨_, _, ?_, rfl, hb⟩
        show InsR (n, na, 0) tx 0
        unfold InsR
        rw [if_pos rfl]
        exact hq
    · rw [if_neg c]
      have hi1 : Hid (∀ W, Calls Tryd.prog 18 #[.agg (RT.v ⟨true, true, true, (y : Int), (m : Int), (d : Int), (h : Int), (i : Int), (k : Int), (na : Int), off, late⟩).toArray] W fun e w' => e = .returned (.bool false) ∧ Below W.heap.size W w') := fun W => by
        have := hi0.out W
        rw [decide_eq_false (fun g => c ⟨g.1 rfl, g.2⟩)] at this
        exact this
      refine rri_yes s hs _ h2 rfl _ w false 0 (fun _ => True) hi1 (fun g => by cases g) (fun g => by cases g) (fun _ => ?_) (fun g => by cases g)
      refine fun w' hb => ⟨_, _, ?_, rfl, hb⟩
      unfold InsR
      rw [if_neg (by decide)]
      exact ⟨rfl, rfl⟩
end Go.Proofs.YtckeefjmamggmaaDoor
