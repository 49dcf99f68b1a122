/-
  Helper: the reference's Show, of a text with a date, a time and a zone.
-/
import Derived.Test.YtckeefjmamggmaaDoorInShow
import Derived.Deep.DeepCutAuto
namespace Go.Proofs.YtckeefjmamggmaaDoor
open Go.RowKit
set_option linter.unusedVariables false

theorem tr_snoc (l : List UInt8) (c : UInt8) : Lib.trimRightB (l ++ [c]) 48 = if c = 48 then Lib.trimRightB l 48 else l ++ [c] := by
  unfold Lib.trimRightB
  rw [List.reverse_append, List.reverse_singleton, List.singleton_append, List.dropWhile_cons]
  by_cases h : c = 48
  · rw [if_pos h, if_pos (by simpa using h)]
  · rw [if_neg h, if_neg (by simpa using h), List.reverse_cons, List.reverse_reverse]
theorem ba_last (t : ByteArray) (k : Nat) (h : k < t.size) (hk : t.size = k + 1) : t.data.toList = (t.extract 0 k).data.toList ++ [t[k]] := by
  have h1 := ba_take t k h
  have h2 : t.data.toList.take (k + 1) = t.data.toList := List.take_of_length_le (by have : t.data.toList.length = t.size := by simp
                                                                                     omega)
  rw [h2] at h1
  rw [Lib.extract_from_zero]
  exact h1
theorem tr_step (t : ByteArray) (k : Nat) (h : k < t.size) (hk : t.size = k + 1) (hl : t[k] = 48) : Lib.trimRightB (t.extract 0 k).data.toList 48 = Lib.trimRightB t.data.toList 48 := by
  rw [ba_last t k h hk, tr_snoc, if_pos hl]
theorem tr_stop (t : ByteArray) (k : Nat) (h : k < t.size) (hk : t.size = k + 1) (hl : ¬ t[k] = 48) : t = mkB (Lib.trimRightB t.data.toList 48) := by
  have e := ba_last t k h hk
  have e2 : Lib.trimRightB t.data.toList 48 = t.data.toList := by
    rw [e, tr_snoc, if_neg hl]
  rw [e2]; rfl
theorem tr_stop0 (t : ByteArray) (hk : t.size = 0) : t = mkB (Lib.trimRightB t.data.toList 48) := by
  have e : t.data.toList = [] := List.eq_nil_of_length_eq_zero (by have : t.data.toList.length = t.size := by simp
                                                                   omega)
  have e2 : Lib.trimRightB t.data.toList 48 = [] := by rw [e]; rfl
  rw [e2]
  apply ByteArray.ext
  apply Array.toList_inj.1
  exact e
theorem trim_nz (na : Nat) (h0 : na ≠ 0) (hna : na ≤ 999999999) : (mkB (Lib.trimRightB (padL na 9) 48)).size ≠ 0 := by
  intro h
  rw [mkB_size] at h
  have hT := List.eq_nil_of_length_eq_zero h
  have hs := trim_split (padL na 9)
  have hp := pad_is na 9 (by omega) (by omega)
  rw [hT, hp.1] at hs
  have h9 := hp.2.2
  rw [← hs] at h9
  have h10 : numv ([] ++ List.replicate (9 - ([] : List UInt8).length) 48) = 0 := by decide
  omega
theorem trim_z : (mkB (Lib.trimRightB (padL 0 9) 48)) = ⟨#[]⟩ := by
  rw [← rp_pad 9 0 (by omega) (by omega), rp_zero]; rfl
theorem trim_sz (na : Nat) (hna : na ≤ 999999999) : (mkB (Lib.trimRightB (padL na 9) 48)).size ≤ 9 := by
  have hs := congrArg List.length (trim_split (padL na 9))
  rw [List.length_append, (pad_is na 9 (by omega) (by omega)).1] at hs
  rw [mkB_size]; omega
set_option maxRecDepth 100000 in
set_option maxHeartbeats 8000000 in
theorem show_full (y m d h i k na : Nat) (of : Int) (lt : Bool) (hy : y ≤ 9999) (hm : m ≤ 99) (hd : d ≤ 99) (hh : h ≤ 99) (hi : i ≤ 99) (hk : k ≤ 99) (hna : na ≤ 999999999) (w : World) :
    Calls Tryd.prog 19 #[.agg #[.bool true, .bool true, .bool true, .int .i64 y, .int .i64 m, .int .i64 d, .int .i64 h, .int .i64 i, .int .i64 k, .int .i64 na, .int .i64 of, .bool lt]] w (StrP (canL 3 [y, m, d, h, i, k, 0, 0] na ++ [90]) w) := by
  have HF : Hid (∀ t w', t = mkB (canL 3 [y, m, d, h, i, k, 0, 0] na ++ [90]) → Below w.heap.size w w' → StrP (canL 3 [y, m, d, h, i, k, 0, 0] na ++ [90]) w (.returned (.string t)) w') := fun t w' h1 h2 => by subst h1; exact ⟨rfl, h2⟩
  have E1 := Lib.hid (show_eq y m d h i k na)
  have E0 := Lib.hid (show_eq0 y m d h i k)
  generalize StrP (canL 3 [y, m, d, h, i, k, 0, 0] na ++ [90]) w = Po at *
  obtain ⟨Py, sy⟩ := pad_c y 4 (by omega) (by omega) (by omega)
  obtain ⟨Pm, sm⟩ := pad_c m 2 (by omega) (by omega) (by omega)
  obtain ⟨Pd, sd⟩ := pad_c d 2 (by omega) (by omega) (by omega)
  obtain ⟨Ph, sh⟩ := pad_c h 2 (by omega) (by omega) (by omega)
  obtain ⟨Pi, si⟩ := pad_c i 2 (by omega) (by omega) (by omega)
  obtain ⟨Pk, sk⟩ := pad_c k 2 (by omega) (by omega) (by omega)
  obtain ⟨Pn, sn⟩ := pad_c na 9 (by omega) (by omega) (by omega)
  have H0 : Hid (∀ W, Calls Tryd.prog 33 #[.int .i64 y, .int .i64 4] W fun e w' => e = .returned (.string (mkB (padL y 4))) ∧ Below W.heap.size W w') := Py
  have H1 : Hid (∀ W, Calls Tryd.prog 33 #[.int .i64 m, .int .i64 2] W fun e w' => e = .returned (.string (mkB (padL m 2))) ∧ Below W.heap.size W w') := Pm
  have H2 : Hid (∀ W, Calls Tryd.prog 33 #[.int .i64 d, .int .i64 2] W fun e w' => e = .returned (.string (mkB (padL d 2))) ∧ Below W.heap.size W w') := Pd
  have H3 : Hid (∀ W, Calls Tryd.prog 33 #[.int .i64 h, .int .i64 2] W fun e w' => e = .returned (.string (mkB (padL h 2))) ∧ Below W.heap.size W w') := Ph
  have H4 : Hid (∀ W, Calls Tryd.prog 33 #[.int .i64 i, .int .i64 2] W fun e w' => e = .returned (.string (mkB (padL i 2))) ∧ Below W.heap.size W w') := Pi
  have H5 : Hid (∀ W, Calls Tryd.prog 33 #[.int .i64 k, .int .i64 2] W fun e w' => e = .returned (.string (mkB (padL k 2))) ∧ Below W.heap.size W w') := Pk
  have H6 : Hid (∀ W, Calls Tryd.prog 33 #[.int .i64 na, .int .i64 9] W fun e w' => e = .returned (.string (mkB (padL na 9))) ∧ Below W.heap.size W w') := Pn
  clear Py Pm Pd Ph Pi Pk Pn
  generalize mkB (padL y 4) = ty at *
  generalize mkB (padL m 2) = tm at *
  generalize mkB (padL d 2) = td at *
  generalize mkB (padL h 2) = th at *
  generalize mkB (padL i 2) = ti at *
  generalize mkB (padL k 2) = tk at *
  obtain ⟨wa, n0, hwa, hn0, hz0, HBL, HCell0⟩ := box12 w y m d h i k na of lt
  have hba := Lib.hid (HBL _ _ (by omega) (Below.refl n0 w))
  have HCell := Lib.hid HCell0
  have HN : Hid (∀ a b, Below (n0 + 1) wa a → Below a.heap.size a b → Below (n0 + 1) wa b) := fun a b h1 h2 => h1.trans (h2.mono (by have := h1.size; omega))
  have HE : Hid (∀ W, Below (n0 + 1) wa W → Below w.heap.size w W) := fun W hW => by rw [hn0]; exact hba.out.trans (hW.mono (Nat.le_succ _))
  have hr0 : Hid (Below (n0 + 1) wa wa) := Below.refl _ _
  have hbd : Hid (Below (n0 + 1) wa wa.drew) := (Below.refl _ wa).drew
  clear HBL HCell0 hz0 hba
  obtain ⟨x0, x1, x2, x3, x4, x5, x6, x7, x8, x9, x10, x11⟩ := HCell.out wa (Below.refl _ _)
  have l1 : (9223372036854775807 < ty.size + 1) = False := eq_false (by omega)
  have l2 : (9223372036854775807 < ty.size + 1 + tm.size) = False := eq_false (by omega)
  have l3 : (9223372036854775807 < ty.size + 1 + tm.size + 1) = False := eq_false (by omega)
  have l4 : (9223372036854775807 < ty.size + 1 + tm.size + 1 + td.size) = False := eq_false (by omega)
  go_enter Tryd.func19, Tryd.ntmps19
  go_upto_region 3 with fail
  go_cut [3] (fun sv wx => sv = .string (ty ++ ⟨#[45]⟩ ++ tm ++ ⟨#[45]⟩ ++ td) ∧ Hid (Below (n0 + 1) wa wx))
  case first =>
    go_wp2_with fail
    go_region_law ((first | (go_simp; go_at_call 33; (with_reducible refine (H0.out _).mono ?_); rintro e w1 ⟨rfl, hbq⟩; have hb1 := Lib.hid (HN.out _ _ hbd.out hbq); clear hbq; obtain ⟨u0, u1, u2, u3, u4, u5, u6, u7, u8, u9, u10, u11⟩ := HCell.out w1 hb1.out) | (go_simp; go_at_call 33; (with_reducible refine (H1.out _).mono ?_); rintro e w2 ⟨rfl, hbq⟩; have hb2 := Lib.hid (HN.out _ _ hb1.out hbq); clear hbq; obtain ⟨v0, v1, v2, v3, v4, v5, v6, v7, v8, v9, v10, v11⟩ := HCell.out w2 hb2.out) | (go_simp; go_at_call 33; (with_reducible refine (H2.out _).mono ?_); rintro e w3 ⟨rfl, hbq⟩; have hb3 := Lib.hid (HN.out _ _ hb2.out hbq); clear hbq; obtain ⟨z0, z1, z2, z3, z4, z5, z6, z7, z8, z9, z10, z11⟩ := HCell.out w3 hb3.out)))
    all_goals
      first | go_meet | (go_wp2_with fail; go_meet) | (go_simp; go_meet)
      exact ⟨rfl, hb3⟩
  case rest =>
    obtain ⟨rfl, hB3⟩ := hcut
    obtain ⟨x0, x1, x2, x3, x4, x5, x6, x7, x8, x9, x10, x11⟩ := HCell.out wc hB3.out
    have z1 : (ty ++ ⟨#[45]⟩ ++ tm ++ ⟨#[45]⟩ ++ td).size = 10 := by
      have y1 : (⟨#[45]⟩ : ByteArray).size = 1 := rfl
      rw [ByteArray.size_append, ByteArray.size_append, ByteArray.size_append, ByteArray.size_append, y1]; omega
    clear l1 l2 l3 l4 H0 H1 H2 sy sm sd
    generalize hs1 : ty ++ ⟨#[45]⟩ ++ tm ++ ⟨#[45]⟩ ++ td = s1 at *
    have hs1h := Lib.hid hs1
    clear hs1
    have l5 : (9223372036854775807 < s1.size + 1 + th.size) = False := eq_false (by omega)
    have l6 : (9223372036854775807 < s1.size + 1 + th.size + 1) = False := eq_false (by omega)
    have l7 : (9223372036854775807 < s1.size + 1 + th.size + 1 + ti.size) = False := eq_false (by omega)
    have l8 : (9223372036854775807 < s1.size + 1 + th.size + 1 + ti.size + 1) = False := eq_false (by omega)
    have l9 : (9223372036854775807 < s1.size + 1 + th.size + 1 + ti.size + 1 + tk.size) = False := eq_false (by omega)
    go_upto_region 7 with fail
    have hbd3 : Hid (Below (n0 + 1) wa wc.drew) := hB3.out.drew
    go_cut [3] (fun sv wx => sv = .string (s1 ++ ⟨#[84]⟩ ++ th ++ ⟨#[58]⟩ ++ ti ++ ⟨#[58]⟩ ++ tk) ∧ Hid (Below (n0 + 1) wa wx))
    case first =>
      go_wp2_with fail
      go_region_law ((first | (go_simp; go_at_call 33; (with_reducible refine (H3.out _).mono ?_); rintro e w4 ⟨rfl, hbq⟩; have hb4 := Lib.hid (HN.out _ _ hbd3.out hbq); clear hbq; obtain ⟨u0, u1, u2, u3, u4, u5, u6, u7, u8, u9, u10, u11⟩ := HCell.out w4 hb4.out) | (go_simp; go_at_call 33; (with_reducible refine (H4.out _).mono ?_); rintro e w5 ⟨rfl, hbq⟩; have hb5 := Lib.hid (HN.out _ _ hb4.out hbq); clear hbq; obtain ⟨v0, v1, v2, v3, v4, v5, v6, v7, v8, v9, v10, v11⟩ := HCell.out w5 hb5.out) | (go_simp; go_at_call 33; (with_reducible refine (H5.out _).mono ?_); rintro e w6 ⟨rfl, hbq⟩; have hb6 := Lib.hid (HN.out _ _ hb5.out hbq); clear hbq; obtain ⟨z0, z1, z2, z3, z4, z5, z6, z7, z8, z9, z10, z11⟩ := HCell.out w6 hb6.out)))
      all_goals
        first | go_meet | (go_wp2_with fail; go_meet) | (go_simp; go_meet)
        exact ⟨rfl, hb6⟩
    case rest =>
      obtain ⟨rfl, hB6⟩ := hcut
      obtain ⟨x0, x1, x2, x3, x4, x5, x6, x7, x8, x9, x10, x11⟩ := HCell.out wc hB6.out
      have z2 : (s1 ++ ⟨#[84]⟩ ++ th ++ ⟨#[58]⟩ ++ ti ++ ⟨#[58]⟩ ++ tk).size = 19 := by
        have y1 : (⟨#[84]⟩ : ByteArray).size = 1 := rfl
        have y2 : (⟨#[58]⟩ : ByteArray).size = 1 := rfl
        rw [ByteArray.size_append, ByteArray.size_append, ByteArray.size_append, ByteArray.size_append, ByteArray.size_append, ByteArray.size_append, y1, y2]; omega
      clear l5 l6 l7 l8 l9 H3 H4 H5 sh si sk z1
      generalize hs2 : s1 ++ ⟨#[84]⟩ ++ th ++ ⟨#[58]⟩ ++ ti ++ ⟨#[58]⟩ ++ tk = s2 at *
      have hs2h := Lib.hid hs2
      clear hs2
      go_wp2_with fail
      refine (H6.out _).mono ?_
      rintro e w7 ⟨rfl, hbq⟩
      have hB7 := Lib.hid (HN.out _ _ hB6.out hbq)
      clear hbq
      obtain ⟨y0, y1, y2, y3, y4, y5, y6, y7, y8, y9, y10, y11⟩ := HCell.out w7 hB7.out
      have hT0 : Hid (Lib.trimRightB (mkB (padL na 9)).data.toList 48 = Lib.trimRightB (padL na 9) 48) := rfl
      generalize mkB (padL na 9) = f0 at *
      go_wp2
      go_loopw [4] (fun fv wr => ∃ (t : ByteArray) (q : Nat), fv = .string t ∧ t.size ≤ 9 ∧ Hid (Lib.trimRightB t.data.toList 48 = Lib.trimRightB (padL na 9) 48) ∧ wr = w7.drewN q) (fun fv _ => match fv with | .string t => t.size | _ => 0)
      case atStart => exact ⟨f0, 0, rfl, by omega, hT0, rfl⟩
      case round =>
        obtain ⟨t, q, rfl, ht9, hT, rfl⟩ := hrel
        have hBq : Hid (Below (n0 + 1) wa (w7.drewN q)) := Below.drewN hB7.out q
        obtain ⟨q0, q1, q2, q3, q4, q5, q6, q7, q8, q9, q10, q11⟩ := HCell.out _ hBq.out
        clear y0 y1 y2 y3 y4 y5 y6 y7 y8 y9 y10 y11
        by_cases h0 : t.size = 0
        · have hna0 : na = 0 := Classical.byContradiction fun h => trim_nz na h hna (by rw [← hT.out, ← tr_stop0 t h0]; exact h0)
          have hfin := Lib.hid (fun w' hw => HF.out (s2 ++ ⟨#[90]⟩) w' (by rw [E0.out, hna0]) (HE.out w' hw))
          have h0i : ¬ (0 : Int) < (t.size : Int) := by omega
          clear HF E0 E1 hT hna0
          go_wp2
          first | exact hfin.out _ hBq.out | exact hfin.out _ hBq.out.drew
        · obtain ⟨k, hks⟩ : ∃ k, t.size = k + 1 := ⟨t.size - 1, by omega⟩
          have hk : k < t.size := by omega
          have hidx : (t.size : Int) - 1 = (k : Int) := by omega
          have hpos : (0 : Int) < (t.size : Int) := by omega
          by_cases hc : t[k] = 48
          · have hst := Lib.hid ((tr_step t k hk hks hc).trans hT.out)
            have hcI : ((t[k].toNat : Int) == 48) = true := by rw [hc]; rfl
            have hsz9 : Hid ((t.extract 0 k).size = k) := by show _ = _; rw [ByteArray.size_extract]; omega
            have hk9 : Hid (k < 9) := by show _ < _; omega
            have hkt := Lib.hid hks
            clear HF E0 E1 hT hc hks
            go_wp2
            go_roundw
            case rel => exact ⟨t.extract 0 k, q, rfl, by rw [hsz9.out]; exact Nat.le_of_lt hk9.out, hst, rfl⟩
            case measure => show (t.extract 0 k).size < t.size; rw [hsz9.out]; exact hk
          · have hna0 : na ≠ 0 := fun h => by
              have e := tr_stop t k hk hks hc
              rw [hT.out, h, trim_z] at e
              exact h0 (by rw [e]; rfl)
            have hcI : ((t[k].toNat : Int) == 48) = false := by
              rw [beq_eq_false_iff_ne]
              intro g
              exact hc (UInt8.toNat_inj.1 (by have : (48 : UInt8).toNat = 48 := rfl; omega))
            have htT : t = mkB (Lib.trimRightB (padL na 9) 48) := by rw [← hT.out]; exact tr_stop t k hk hks hc
            have hfin := Lib.hid (fun w' hw => HF.out (s2 ++ ⟨#[46]⟩ ++ t ++ ⟨#[90]⟩) w' (by rw [htT]; exact E1.out hna0) (HE.out w' hw))
            clear HF E0 E1 hT hc htT hks hna0
            go_wp2
            first | exact hfin.out _ hBq.out | exact hfin.out _ hBq.out.drew
end Go.Proofs.YtckeefjmamggmaaDoor
