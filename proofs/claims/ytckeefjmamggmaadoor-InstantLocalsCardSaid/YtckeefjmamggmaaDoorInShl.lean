/-
  Helper: the reference's Show without a zone: of a date and a time, a time, a date.
-/
import Derived.Test.YtckeefjmamggmaaDoorInShowW
import Derived.Test.YtckeefjmamggmaaDoorInOfR
namespace Go.Proofs.YtckeefjmamggmaaDoor
open Go.RowKit
set_option linter.unusedVariables false

theorem box12g (w1 : World) (b1 b2 b3 : Bool) (y m d h i k na of : Int) (lt : Bool) : ∃ wa n0, w1.alloc (.cells #[.bool b1, .bool b2, .bool b3, .int .i64 y, .int .i64 m, .int .i64 d, .int .i64 h, .int .i64 i, .int .i64 k, .int .i64 na, .int .i64 of, .bool lt] 30) = wa ∧ w1.heap.size = n0 ∧ wa.heap.size = n0 + 1 ∧ (∀ B w0, B ≤ n0 → Below B w0 w1 → Below B w0 wa) ∧ (∀ W, Below (n0 + 1) wa W → W.cell? ⟨n0, 0, none⟩ = some (.bool b1) ∧ W.cell? ⟨n0, 1, none⟩ = some (.bool b2) ∧ W.cell? ⟨n0, 2, none⟩ = some (.bool b3) ∧ W.cell? ⟨n0, 3, none⟩ = some (.int .i64 y) ∧ W.cell? ⟨n0, 4, none⟩ = some (.int .i64 m) ∧ W.cell? ⟨n0, 5, none⟩ = some (.int .i64 d) ∧ W.cell? ⟨n0, 6, none⟩ = some (.int .i64 h) ∧ W.cell? ⟨n0, 7, none⟩ = some (.int .i64 i) ∧ W.cell? ⟨n0, 8, none⟩ = some (.int .i64 k) ∧ W.cell? ⟨n0, 9, none⟩ = some (.int .i64 na) ∧ W.cell? ⟨n0, 10, none⟩ = some (.int .i64 of) ∧ W.cell? ⟨n0, 11, none⟩ = some (.bool lt)) := by
  refine ⟨_, _, rfl, rfl, by simp, fun B w0 h1 h2 => h2.alloc h1 _, fun W hh => ?_⟩
  have hb := (Blk.new w1 30 [.bool b1, .bool b2, .bool b3, .int .i64 y, .int .i64 m, .int .i64 d, .int .i64 h, .int .i64 i, .int .i64 k, .int .i64 na, .int .i64 of, .bool lt]).go hh (Nat.lt_succ_self _)
  exact ⟨hb.cell 0 _ rfl, hb.cell 1 _ rfl, hb.cell 2 _ rfl, hb.cell 3 _ rfl, hb.cell 4 _ rfl, hb.cell 5 _ rfl, hb.cell 6 _ rfl, hb.cell 7 _ rfl, hb.cell 8 _ rfl, hb.cell 9 _ rfl, hb.cell 10 _ rfl, hb.cell 11 _ rfl⟩
theorem join3n (x y z : List UInt8) (m : UInt8) : Lib.join [x, y, z] [m] = x ++ (m :: (y ++ (m :: z))) := by simp [Lib.join, List.intercalate]
theorem shb_eq (y m d h i k na : Nat) (hna : na ≠ 0) : mkB (padL y 4) ++ ⟨#[45]⟩ ++ mkB (padL m 2) ++ ⟨#[45]⟩ ++ mkB (padL d 2) ++ ⟨#[84]⟩ ++ mkB (padL h 2) ++ ⟨#[58]⟩ ++ mkB (padL i 2) ++ ⟨#[58]⟩ ++ mkB (padL k 2) ++ ⟨#[46]⟩ ++ mkB (Lib.trimRightB (padL na 9) 48) = mkB (canL 3 [y, m, d, h, i, k, 0, 0] na) := by
  have hc : canL 3 [y, m, d, h, i, k, 0, 0] na = Lib.join [padL y 4, padL m 2, padL d 2] [45] ++ ([84] ++ (Lib.join [padL h 2, padL i 2, padL k 2] [58] ++ frL na)) := by
    have : canL 3 [y, m, d, h, i, k, 0, 0] na = Lib.join [padL y 4, padL m 2, padL d 2] [45] ++ [84] ++ Lib.join [padL h 2, padL i 2, padL k 2] [58] ++ frL na := rfl
    rw [this]; simp
  have hf : frL na = 46 :: Lib.trimRightB (padL na 9) 48 := if_neg hna
  rw [hc, hf, join3, join3]
  apply ByteArray.ext
  apply Array.toList_inj.1
  simp [mkB]
theorem shb_eq0 (y m d h i k : Nat) : mkB (padL y 4) ++ ⟨#[45]⟩ ++ mkB (padL m 2) ++ ⟨#[45]⟩ ++ mkB (padL d 2) ++ ⟨#[84]⟩ ++ mkB (padL h 2) ++ ⟨#[58]⟩ ++ mkB (padL i 2) ++ ⟨#[58]⟩ ++ mkB (padL k 2) = mkB (canL 3 [y, m, d, h, i, k, 0, 0] 0) := by
  have hc : canL 3 [y, m, d, h, i, k, 0, 0] 0 = Lib.join [padL y 4, padL m 2, padL d 2] [45] ++ ([84] ++ Lib.join [padL h 2, padL i 2, padL k 2] [58]) := by
    have : canL 3 [y, m, d, h, i, k, 0, 0] 0 = Lib.join [padL y 4, padL m 2, padL d 2] [45] ++ [84] ++ Lib.join [padL h 2, padL i 2, padL k 2] [58] ++ [] := rfl
    rw [this]; simp
  rw [hc, join3, join3n]
  apply ByteArray.ext
  apply Array.toList_inj.1
  simp [mkB]
theorem sht_eq (h i k na : Nat) (hna : na ≠ 0) : ⟨#[]⟩ ++ mkB (padL h 2) ++ ⟨#[58]⟩ ++ mkB (padL i 2) ++ ⟨#[58]⟩ ++ mkB (padL k 2) ++ ⟨#[46]⟩ ++ mkB (Lib.trimRightB (padL na 9) 48) = mkB (canL 2 [0, 0, 0, h, i, k, 0, 0] na) := by
  have hc : canL 2 [0, 0, 0, h, i, k, 0, 0] na = Lib.join [padL h 2, padL i 2, padL k 2] [58] ++ frL na := rfl
  have hf : frL na = 46 :: Lib.trimRightB (padL na 9) 48 := if_neg hna
  rw [hc, hf, join3]
  apply ByteArray.ext
  apply Array.toList_inj.1
  simp [mkB]
theorem sht_eq0 (h i k : Nat) : ⟨#[]⟩ ++ mkB (padL h 2) ++ ⟨#[58]⟩ ++ mkB (padL i 2) ++ ⟨#[58]⟩ ++ mkB (padL k 2) = mkB (canL 2 [0, 0, 0, h, i, k, 0, 0] 0) := by
  have hc : canL 2 [0, 0, 0, h, i, k, 0, 0] 0 = Lib.join [padL h 2, padL i 2, padL k 2] [58] ++ [] := rfl
  rw [hc, join3]
  apply ByteArray.ext
  apply Array.toList_inj.1
  simp [mkB]
theorem shd_eq (y m d : Nat) : mkB (padL y 4) ++ ⟨#[45]⟩ ++ mkB (padL m 2) ++ ⟨#[45]⟩ ++ mkB (padL d 2) = mkB (canL 1 [y, m, d, 0, 0, 0, 0, 0] 0) := by
  have hc : canL 1 [y, m, d, 0, 0, 0, 0, 0] 0 = Lib.join [padL y 4, padL m 2, padL d 2] [45] := rfl
  rw [hc, join3n]
  apply ByteArray.ext
  apply Array.toList_inj.1
  simp [mkB]
set_option maxRecDepth 100000 in
set_option maxHeartbeats 8000000 in
theorem show_both (y m d h i k na : Nat) (of : Int) (lt : Bool) (hy : y ≤ 9999) (hm : m ≤ 99) (hd : d ≤ 99) (hh : h ≤ 99) (hi : i ≤ 99) (hk : k ≤ 99) (hna : na ≤ 999999999) (w : World) :
    Calls Tryd.prog 19 #[.agg #[.bool true, .bool true, .bool false, .int .i64 y, .int .i64 m, .int .i64 d, .int .i64 h, .int .i64 i, .int .i64 k, .int .i64 na, .int .i64 of, .bool lt]] w (StrP (canL 3 [y, m, d, h, i, k, 0, 0] na) w) := by
  have HF : Hid (∀ t w', t = mkB (canL 3 [y, m, d, h, i, k, 0, 0] na) → Below w.heap.size w w' → StrP (canL 3 [y, m, d, h, i, k, 0, 0] na) w (.returned (.string t)) w') := fun t w' h1 h2 => by subst h1; exact ⟨rfl, h2⟩
  have E1 := Lib.hid (shb_eq y m d h i k na)
  have E0 := Lib.hid (shb_eq0 y m d h i k)
  generalize StrP (canL 3 [y, m, d, h, i, k, 0, 0] na) w = Po at *
  obtain ⟨Py, sy⟩ := pad_c y 4 (by omega) (by omega) (by omega)
  obtain ⟨Pm, sm⟩ := pad_c m 2 (by omega) (by omega) (by omega)
  obtain ⟨Pd, sd⟩ := pad_c d 2 (by omega) (by omega) (by omega)
  obtain ⟨Ph, sh⟩ := pad_c h 2 (by omega) (by omega) (by omega)
  obtain ⟨Pi, si⟩ := pad_c i 2 (by omega) (by omega) (by omega)
  obtain ⟨Pk, sk⟩ := pad_c k 2 (by omega) (by omega) (by omega)
  obtain ⟨Pn, sn⟩ := pad_c na 9 (by omega) (by omega) (by omega)
  have H0 : Hid (∀ W, Calls Tryd.prog 33 #[.int .i64 y, .int .i64 4] W fun e w' => e = .returned (.string (mkB (padL y 4))) ∧ Below W.heap.size W w') := Py
  have H1 : Hid (∀ W, Calls Tryd.prog 33 #[.int .i64 m, .int .i64 2] W fun e w' => e = .returned (.string (mkB (padL m 2))) ∧ Below W.heap.size W w') := Pm
  have H2 : Hid (∀ W, Calls Tryd.prog 33 #[.int .i64 d, .int .i64 2] W fun e w' => e = .returned (.string (mkB (padL d 2))) ∧ Below W.heap.size W w') := Pd
  have H3 : Hid (∀ W, Calls Tryd.prog 33 #[.int .i64 h, .int .i64 2] W fun e w' => e = .returned (.string (mkB (padL h 2))) ∧ Below W.heap.size W w') := Ph
  have H4 : Hid (∀ W, Calls Tryd.prog 33 #[.int .i64 i, .int .i64 2] W fun e w' => e = .returned (.string (mkB (padL i 2))) ∧ Below W.heap.size W w') := Pi
  have H5 : Hid (∀ W, Calls Tryd.prog 33 #[.int .i64 k, .int .i64 2] W fun e w' => e = .returned (.string (mkB (padL k 2))) ∧ Below W.heap.size W w') := Pk
  have H6 : Hid (∀ W, Calls Tryd.prog 33 #[.int .i64 na, .int .i64 9] W fun e w' => e = .returned (.string (mkB (padL na 9))) ∧ Below W.heap.size W w') := Pn
  clear Py Pm Pd Ph Pi Pk Pn
  generalize mkB (padL y 4) = ty at *
  generalize mkB (padL m 2) = tm at *
  generalize mkB (padL d 2) = td at *
  generalize mkB (padL h 2) = th at *
  generalize mkB (padL i 2) = ti at *
  generalize mkB (padL k 2) = tk at *
  obtain ⟨wa, n0, hwa, hn0, hz0, HBL, HCell0⟩ := box12g w true true false y m d h i k na of lt
  have hba := Lib.hid (HBL _ _ (by omega) (Below.refl n0 w))
  have HCell := Lib.hid HCell0
  have HN : Hid (∀ a b, Below (n0 + 1) wa a → Below a.heap.size a b → Below (n0 + 1) wa b) := fun a b h1 h2 => h1.trans (h2.mono (by have := h1.size; omega))
  have HE : Hid (∀ W, Below (n0 + 1) wa W → Below w.heap.size w W) := fun W hW => by rw [hn0]; exact hba.out.trans (hW.mono (Nat.le_succ _))
  have hr0 : Hid (Below (n0 + 1) wa wa) := Below.refl _ _
  have hbd : Hid (Below (n0 + 1) wa wa.drew) := (Below.refl _ wa).drew
  clear HBL HCell0 hz0 hba
  obtain ⟨x0, x1, x2, x3, x4, x5, x6, x7, x8, x9, x10, x11⟩ := HCell.out wa (Below.refl _ _)
  have l1 : (9223372036854775807 < ty.size + 1) = False := eq_false (by omega)
  have l2 : (9223372036854775807 < ty.size + 1 + tm.size) = False := eq_false (by omega)
  have l3 : (9223372036854775807 < ty.size + 1 + tm.size + 1) = False := eq_false (by omega)
  have l4 : (9223372036854775807 < ty.size + 1 + tm.size + 1 + td.size) = False := eq_false (by omega)
  go_enter Tryd.func19, Tryd.ntmps19
  go_upto_region 3 with fail
  go_cut [3] (fun sv wx => sv = .string (ty ++ ⟨#[45]⟩ ++ tm ++ ⟨#[45]⟩ ++ td) ∧ Hid (Below (n0 + 1) wa wx))
  case first =>
    go_wp2_with fail
    go_region_law ((first | (go_simp; go_at_call 33; (with_reducible refine (H0.out _).mono ?_); rintro e w1 ⟨rfl, hbq⟩; have hb1 := Lib.hid (HN.out _ _ hbd.out hbq); clear hbq; obtain ⟨u0, u1, u2, u3, u4, u5, u6, u7, u8, u9, u10, u11⟩ := HCell.out w1 hb1.out) | (go_simp; go_at_call 33; (with_reducible refine (H1.out _).mono ?_); rintro e w2 ⟨rfl, hbq⟩; have hb2 := Lib.hid (HN.out _ _ hb1.out hbq); clear hbq; obtain ⟨v0, v1, v2, v3, v4, v5, v6, v7, v8, v9, v10, v11⟩ := HCell.out w2 hb2.out) | (go_simp; go_at_call 33; (with_reducible refine (H2.out _).mono ?_); rintro e w3 ⟨rfl, hbq⟩; have hb3 := Lib.hid (HN.out _ _ hb2.out hbq); clear hbq; obtain ⟨z0, z1, z2, z3, z4, z5, z6, z7, z8, z9, z10, z11⟩ := HCell.out w3 hb3.out)))
    all_goals
      first | go_meet | (go_wp2_with fail; go_meet) | (go_simp; go_meet)
      exact ⟨rfl, hb3⟩
  case rest =>
    obtain ⟨rfl, hB3⟩ := hcut
    obtain ⟨x0, x1, x2, x3, x4, x5, x6, x7, x8, x9, x10, x11⟩ := HCell.out wc hB3.out
    have z1 : (ty ++ ⟨#[45]⟩ ++ tm ++ ⟨#[45]⟩ ++ td).size = 10 := by
      have y1 : (⟨#[45]⟩ : ByteArray).size = 1 := rfl
      rw [ByteArray.size_append, ByteArray.size_append, ByteArray.size_append, ByteArray.size_append, y1]; omega
    clear l1 l2 l3 l4 H0 H1 H2 sy sm sd
    generalize hs1 : ty ++ ⟨#[45]⟩ ++ tm ++ ⟨#[45]⟩ ++ td = s1 at *
    have hs1h := Lib.hid hs1
    clear hs1
    have l5 : (9223372036854775807 < s1.size + 1 + th.size) = False := eq_false (by omega)
    have l6 : (9223372036854775807 < s1.size + 1 + th.size + 1) = False := eq_false (by omega)
    have l7 : (9223372036854775807 < s1.size + 1 + th.size + 1 + ti.size) = False := eq_false (by omega)
    have l8 : (9223372036854775807 < s1.size + 1 + th.size + 1 + ti.size + 1) = False := eq_false (by omega)
    have l9 : (9223372036854775807 < s1.size + 1 + th.size + 1 + ti.size + 1 + tk.size) = False := eq_false (by omega)
    go_upto_region 7 with fail
    have hbd3 : Hid (Below (n0 + 1) wa wc.drew) := hB3.out.drew
    go_cut [3] (fun sv wx => sv = .string (s1 ++ ⟨#[84]⟩ ++ th ++ ⟨#[58]⟩ ++ ti ++ ⟨#[58]⟩ ++ tk) ∧ Hid (Below (n0 + 1) wa wx))
    case first =>
      go_wp2_with fail
      go_region_law ((first | (go_simp; go_at_call 33; (with_reducible refine (H3.out _).mono ?_); rintro e w4 ⟨rfl, hbq⟩; have hb4 := Lib.hid (HN.out _ _ hbd3.out hbq); clear hbq; obtain ⟨u0, u1, u2, u3, u4, u5, u6, u7, u8, u9, u10, u11⟩ := HCell.out w4 hb4.out) | (go_simp; go_at_call 33; (with_reducible refine (H4.out _).mono ?_); rintro e w5 ⟨rfl, hbq⟩; have hb5 := Lib.hid (HN.out _ _ hb4.out hbq); clear hbq; obtain ⟨v0, v1, v2, v3, v4, v5, v6, v7, v8, v9, v10, v11⟩ := HCell.out w5 hb5.out) | (go_simp; go_at_call 33; (with_reducible refine (H5.out _).mono ?_); rintro e w6 ⟨rfl, hbq⟩; have hb6 := Lib.hid (HN.out _ _ hb5.out hbq); clear hbq; obtain ⟨z0, z1, z2, z3, z4, z5, z6, z7, z8, z9, z10, z11⟩ := HCell.out w6 hb6.out)))
      all_goals
        first | go_meet | (go_wp2_with fail; go_meet) | (go_simp; go_meet)
        exact ⟨rfl, hb6⟩
    case rest =>
      obtain ⟨rfl, hB6⟩ := hcut
      obtain ⟨x0, x1, x2, x3, x4, x5, x6, x7, x8, x9, x10, x11⟩ := HCell.out wc hB6.out
      have z2 : (s1 ++ ⟨#[84]⟩ ++ th ++ ⟨#[58]⟩ ++ ti ++ ⟨#[58]⟩ ++ tk).size = 19 := by
        have y1 : (⟨#[84]⟩ : ByteArray).size = 1 := rfl
        have y2 : (⟨#[58]⟩ : ByteArray).size = 1 := rfl
        rw [ByteArray.size_append, ByteArray.size_append, ByteArray.size_append, ByteArray.size_append, ByteArray.size_append, ByteArray.size_append, y1, y2]; omega
      clear l5 l6 l7 l8 l9 H3 H4 H5 sh si sk z1
      generalize hs2 : s1 ++ ⟨#[84]⟩ ++ th ++ ⟨#[58]⟩ ++ ti ++ ⟨#[58]⟩ ++ tk = s2 at *
      have hs2h := Lib.hid hs2
      clear hs2
      go_wp2_with fail
      refine (H6.out _).mono ?_
      rintro e w7 ⟨rfl, hbq⟩
      have hB7 := Lib.hid (HN.out _ _ hB6.out hbq)
      clear hbq
      obtain ⟨y0, y1, y2, y3, y4, y5, y6, y7, y8, y9, y10, y11⟩ := HCell.out w7 hB7.out
      have hT0 : Hid (Lib.trimRightB (mkB (padL na 9)).data.toList 48 = Lib.trimRightB (padL na 9) 48) := rfl
      generalize mkB (padL na 9) = f0 at *
      go_wp2
      go_loopw [4] (fun fv wr => ∃ (t : ByteArray) (q : Nat), fv = .string t ∧ t.size ≤ 9 ∧ Hid (Lib.trimRightB t.data.toList 48 = Lib.trimRightB (padL na 9) 48) ∧ wr = w7.drewN q) (fun fv _ => match fv with | .string t => t.size | _ => 0)
      case atStart => exact ⟨f0, 0, rfl, by omega, hT0, rfl⟩
      case round =>
        obtain ⟨t, q, rfl, ht9, hT, rfl⟩ := hrel
        have hBq : Hid (Below (n0 + 1) wa (w7.drewN q)) := Below.drewN hB7.out q
        obtain ⟨q0, q1, q2, q3, q4, q5, q6, q7, q8, q9, q10, q11⟩ := HCell.out _ hBq.out
        clear y0 y1 y2 y3 y4 y5 y6 y7 y8 y9 y10 y11
        by_cases h0 : t.size = 0
        · have hna0 : na = 0 := Classical.byContradiction fun h => trim_nz na h hna (by rw [← hT.out, ← tr_stop0 t h0]; exact h0)
          have hfin := Lib.hid (fun w' hw => HF.out s2 w' (by rw [E0.out, hna0]) (HE.out w' hw))
          have h0i : ¬ (0 : Int) < (t.size : Int) := by omega
          clear HF E0 E1 hT hna0
          go_wp2
          first | exact hfin.out _ hBq.out | exact hfin.out _ hBq.out.drew
        · obtain ⟨k, hks⟩ : ∃ k, t.size = k + 1 := ⟨t.size - 1, by omega⟩
          have hk : k < t.size := by omega
          have hidx : (t.size : Int) - 1 = (k : Int) := by omega
          have hpos : (0 : Int) < (t.size : Int) := by omega
          by_cases hc : t[k] = 48
          · have hst := Lib.hid ((tr_step t k hk hks hc).trans hT.out)
            have hcI : ((t[k].toNat : Int) == 48) = true := by rw [hc]; rfl
            have hsz9 : Hid ((t.extract 0 k).size = k) := by show _ = _; rw [ByteArray.size_extract]; omega
            have hk9 : Hid (k < 9) := by show _ < _; omega
            have hkt := Lib.hid hks
            clear HF E0 E1 hT hc hks
            go_wp2
            go_roundw
            case rel => exact ⟨t.extract 0 k, q, rfl, by rw [hsz9.out]; exact Nat.le_of_lt hk9.out, hst, rfl⟩
            case measure => show (t.extract 0 k).size < t.size; rw [hsz9.out]; exact hk
          · have hna0 : na ≠ 0 := fun h => by
              have e := tr_stop t k hk hks hc
              rw [hT.out, h, trim_z] at e
              exact h0 (by rw [e]; rfl)
            have hcI : ((t[k].toNat : Int) == 48) = false := by
              rw [beq_eq_false_iff_ne]
              intro g
              exact hc (UInt8.toNat_inj.1 (by have : (48 : UInt8).toNat = 48 := rfl; omega))
            have htT : t = mkB (Lib.trimRightB (padL na 9) 48) := by rw [← hT.out]; exact tr_stop t k hk hks hc
            have hfin := Lib.hid (fun w' hw => HF.out (s2 ++ ⟨#[46]⟩ ++ t) w' (by rw [htT]; exact E1.out hna0) (HE.out w' hw))
            clear HF E0 E1 hT hc htT hks hna0
            go_wp2
            first | exact hfin.out _ hBq.out | exact hfin.out _ hBq.out.drew
set_option maxRecDepth 100000 in
set_option maxHeartbeats 8000000 in
theorem show_time (h i k na : Nat) (of : Int) (lt : Bool) (hh : h ≤ 99) (hi : i ≤ 99) (hk : k ≤ 99) (hna : na ≤ 999999999) (w : World) :
    Calls Tryd.prog 19 #[.agg #[.bool false, .bool true, .bool false, .int .i64 0, .int .i64 0, .int .i64 0, .int .i64 h, .int .i64 i, .int .i64 k, .int .i64 na, .int .i64 of, .bool lt]] w (StrP (canL 2 [0, 0, 0, h, i, k, 0, 0] na) w) := by
  have HF : Hid (∀ t w', t = mkB (canL 2 [0, 0, 0, h, i, k, 0, 0] na) → Below w.heap.size w w' → StrP (canL 2 [0, 0, 0, h, i, k, 0, 0] na) w (.returned (.string t)) w') := fun t w' h1 h2 => by subst h1; exact ⟨rfl, h2⟩
  have E1 := Lib.hid (sht_eq h i k na)
  have E0 := Lib.hid (sht_eq0 h i k)
  generalize StrP (canL 2 [0, 0, 0, h, i, k, 0, 0] na) w = Po at *
  obtain ⟨Ph, sh⟩ := pad_c h 2 (by omega) (by omega) (by omega)
  obtain ⟨Pi, si⟩ := pad_c i 2 (by omega) (by omega) (by omega)
  obtain ⟨Pk, sk⟩ := pad_c k 2 (by omega) (by omega) (by omega)
  obtain ⟨Pn, sn⟩ := pad_c na 9 (by omega) (by omega) (by omega)
  have H3 : Hid (∀ W, Calls Tryd.prog 33 #[.int .i64 h, .int .i64 2] W fun e w' => e = .returned (.string (mkB (padL h 2))) ∧ Below W.heap.size W w') := Ph
  have H4 : Hid (∀ W, Calls Tryd.prog 33 #[.int .i64 i, .int .i64 2] W fun e w' => e = .returned (.string (mkB (padL i 2))) ∧ Below W.heap.size W w') := Pi
  have H5 : Hid (∀ W, Calls Tryd.prog 33 #[.int .i64 k, .int .i64 2] W fun e w' => e = .returned (.string (mkB (padL k 2))) ∧ Below W.heap.size W w') := Pk
  have H6 : Hid (∀ W, Calls Tryd.prog 33 #[.int .i64 na, .int .i64 9] W fun e w' => e = .returned (.string (mkB (padL na 9))) ∧ Below W.heap.size W w') := Pn
  clear Ph Pi Pk Pn
  generalize mkB (padL h 2) = th at *
  generalize mkB (padL i 2) = ti at *
  generalize mkB (padL k 2) = tk at *
  obtain ⟨wa, n0, hwa, hn0, hz0, HBL, HCell0⟩ := box12g w false true false 0 0 0 h i k na of lt
  have hba := Lib.hid (HBL _ _ (by omega) (Below.refl n0 w))
  have HCell := Lib.hid HCell0
  have HN : Hid (∀ a b, Below (n0 + 1) wa a → Below a.heap.size a b → Below (n0 + 1) wa b) := fun a b h1 h2 => h1.trans (h2.mono (by have := h1.size; omega))
  have HE : Hid (∀ W, Below (n0 + 1) wa W → Below w.heap.size w W) := fun W hW => by rw [hn0]; exact hba.out.trans (hW.mono (Nat.le_succ _))
  have hr0 : Hid (Below (n0 + 1) wa wa) := Below.refl _ _
  have hbd : Hid (Below (n0 + 1) wa wa.drew) := (Below.refl _ wa).drew
  clear HBL HCell0 hz0 hba
  obtain ⟨x0, x1, x2, x3, x4, x5, x6, x7, x8, x9, x10, x11⟩ := HCell.out wa (Below.refl _ _)
  go_enter Tryd.func19, Tryd.ntmps19
  have l5 : (9223372036854775807 < th.size) = False := eq_false (by omega)
  have l6 : (9223372036854775807 < th.size + 1) = False := eq_false (by omega)
  have l7 : (9223372036854775807 < th.size + 1 + ti.size) = False := eq_false (by omega)
  have l8 : (9223372036854775807 < th.size + 1 + ti.size + 1) = False := eq_false (by omega)
  have l9 : (9223372036854775807 < th.size + 1 + ti.size + 1 + tk.size) = False := eq_false (by omega)
  go_upto_region 7 with fail
  have hbd3 : Hid (Below (n0 + 1) wa wa.drew) := hbd
  go_cut [3] (fun sv wx => sv = .string (⟨#[]⟩ ++ th ++ ⟨#[58]⟩ ++ ti ++ ⟨#[58]⟩ ++ tk) ∧ Hid (Below (n0 + 1) wa wx))
  case first =>
    go_wp2_with fail
    go_region_law ((first | (go_simp; go_at_call 33; (with_reducible refine (H3.out _).mono ?_); rintro e w4 ⟨rfl, hbq⟩; have hb4 := Lib.hid (HN.out _ _ hbd3.out hbq); clear hbq; obtain ⟨u0, u1, u2, u3, u4, u5, u6, u7, u8, u9, u10, u11⟩ := HCell.out w4 hb4.out) | (go_simp; go_at_call 33; (with_reducible refine (H4.out _).mono ?_); rintro e w5 ⟨rfl, hbq⟩; have hb5 := Lib.hid (HN.out _ _ hb4.out hbq); clear hbq; obtain ⟨v0, v1, v2, v3, v4, v5, v6, v7, v8, v9, v10, v11⟩ := HCell.out w5 hb5.out) | (go_simp; go_at_call 33; (with_reducible refine (H5.out _).mono ?_); rintro e w6 ⟨rfl, hbq⟩; have hb6 := Lib.hid (HN.out _ _ hb5.out hbq); clear hbq; obtain ⟨z0, z1, z2, z3, z4, z5, z6, z7, z8, z9, z10, z11⟩ := HCell.out w6 hb6.out)))
    all_goals
      first | go_meet | (go_wp2_with fail; go_meet) | (go_simp; go_meet)
      exact ⟨rfl, hb6⟩
  case rest =>
    obtain ⟨rfl, hB6⟩ := hcut
    obtain ⟨x0, x1, x2, x3, x4, x5, x6, x7, x8, x9, x10, x11⟩ := HCell.out wc hB6.out
    have z2 : (⟨#[]⟩ ++ th ++ ⟨#[58]⟩ ++ ti ++ ⟨#[58]⟩ ++ tk).size = 8 := by
      have y1 : (⟨#[]⟩ : ByteArray).size = 0 := rfl
      have y2 : (⟨#[58]⟩ : ByteArray).size = 1 := rfl
      rw [ByteArray.size_append, ByteArray.size_append, ByteArray.size_append, ByteArray.size_append, ByteArray.size_append, y1, y2]; omega
    clear l5 l6 l7 l8 l9 H3 H4 H5 sh si sk
    generalize hs2 : ⟨#[]⟩ ++ th ++ ⟨#[58]⟩ ++ ti ++ ⟨#[58]⟩ ++ tk = s2 at *
    have hs2h := Lib.hid hs2
    clear hs2
    go_wp2_with fail
    refine (H6.out _).mono ?_
    rintro e w7 ⟨rfl, hbq⟩
    have hB7 := Lib.hid (HN.out _ _ hB6.out hbq)
    clear hbq
    obtain ⟨y0, y1, y2, y3, y4, y5, y6, y7, y8, y9, y10, y11⟩ := HCell.out w7 hB7.out
    have hT0 : Hid (Lib.trimRightB (mkB (padL na 9)).data.toList 48 = Lib.trimRightB (padL na 9) 48) := rfl
    generalize mkB (padL na 9) = f0 at *
    go_wp2
    go_loopw [4] (fun fv wr => ∃ (t : ByteArray) (q : Nat), fv = .string t ∧ t.size ≤ 9 ∧ Hid (Lib.trimRightB t.data.toList 48 = Lib.trimRightB (padL na 9) 48) ∧ wr = w7.drewN q) (fun fv _ => match fv with | .string t => t.size | _ => 0)
    case atStart => exact ⟨f0, 0, rfl, by omega, hT0, rfl⟩
    case round =>
      obtain ⟨t, q, rfl, ht9, hT, rfl⟩ := hrel
      have hBq : Hid (Below (n0 + 1) wa (w7.drewN q)) := Below.drewN hB7.out q
      obtain ⟨q0, q1, q2, q3, q4, q5, q6, q7, q8, q9, q10, q11⟩ := HCell.out _ hBq.out
      clear y0 y1 y2 y3 y4 y5 y6 y7 y8 y9 y10 y11
      by_cases h0 : t.size = 0
      · have hna0 : na = 0 := Classical.byContradiction fun h => trim_nz na h hna (by rw [← hT.out, ← tr_stop0 t h0]; exact h0)
        have hfin := Lib.hid (fun w' hw => HF.out s2 w' (by rw [E0.out, hna0]) (HE.out w' hw))
        have h0i : ¬ (0 : Int) < (t.size : Int) := by omega
        clear HF E0 E1 hT hna0
        go_wp2
        first | exact hfin.out _ hBq.out | exact hfin.out _ hBq.out.drew
      · obtain ⟨k, hks⟩ : ∃ k, t.size = k + 1 := ⟨t.size - 1, by omega⟩
        have hk : k < t.size := by omega
        have hidx : (t.size : Int) - 1 = (k : Int) := by omega
        have hpos : (0 : Int) < (t.size : Int) := by omega
        by_cases hc : t[k] = 48
        · have hst := Lib.hid ((tr_step t k hk hks hc).trans hT.out)
          have hcI : ((t[k].toNat : Int) == 48) = true := by rw [hc]; rfl
          have hsz9 : Hid ((t.extract 0 k).size = k) := by show _ = _; rw [ByteArray.size_extract]; omega
          have hk9 : Hid (k < 9) := by show _ < _; omega
          have hkt := Lib.hid hks
          clear HF E0 E1 hT hc hks
          go_wp2
          go_roundw
          case rel => exact ⟨t.extract 0 k, q, rfl, by rw [hsz9.out]; exact Nat.le_of_lt hk9.out, hst, rfl⟩
          case measure => show (t.extract 0 k).size < t.size; rw [hsz9.out]; exact hk
        · have hna0 : na ≠ 0 := fun h => by
            have e := tr_stop t k hk hks hc
            rw [hT.out, h, trim_z] at e
            exact h0 (by rw [e]; rfl)
          have hcI : ((t[k].toNat : Int) == 48) = false := by
            rw [beq_eq_false_iff_ne]
            intro g
            exact hc (UInt8.toNat_inj.1 (by have : (48 : UInt8).toNat = 48 := rfl; omega))
          have htT : t = mkB (Lib.trimRightB (padL na 9) 48) := by rw [← hT.out]; exact tr_stop t k hk hks hc
          have hfin := Lib.hid (fun w' hw => HF.out (s2 ++ ⟨#[46]⟩ ++ t) w' (by rw [htT]; exact E1.out hna0) (HE.out w' hw))
          clear HF E0 E1 hT hc htT hks hna0
          go_wp2
          first | exact hfin.out _ hBq.out | exact hfin.out _ hBq.out.drew
set_option maxRecDepth 100000 in
set_option maxHeartbeats 8000000 in
theorem show_date (y m d : Nat) (of : Int) (lt : Bool) (hy : y ≤ 9999) (hm : m ≤ 99) (hd : d ≤ 99) (w : World) :
    Calls Tryd.prog 19 #[.agg #[.bool true, .bool false, .bool false, .int .i64 y, .int .i64 m, .int .i64 d, .int .i64 0, .int .i64 0, .int .i64 0, .int .i64 0, .int .i64 of, .bool lt]] w (StrP (canL 1 [y, m, d, 0, 0, 0, 0, 0] 0) w) := by
  have HF : Hid (∀ t w', t = mkB (canL 1 [y, m, d, 0, 0, 0, 0, 0] 0) → Below w.heap.size w w' → StrP (canL 1 [y, m, d, 0, 0, 0, 0, 0] 0) w (.returned (.string t)) w') := fun t w' h1 h2 => by subst h1; exact ⟨rfl, h2⟩
  have E0 := Lib.hid (shd_eq y m d)
  generalize StrP (canL 1 [y, m, d, 0, 0, 0, 0, 0] 0) w = Po at *
  obtain ⟨Py, sy⟩ := pad_c y 4 (by omega) (by omega) (by omega)
  obtain ⟨Pm, sm⟩ := pad_c m 2 (by omega) (by omega) (by omega)
  obtain ⟨Pd, sd⟩ := pad_c d 2 (by omega) (by omega) (by omega)
  have H0 : Hid (∀ W, Calls Tryd.prog 33 #[.int .i64 y, .int .i64 4] W fun e w' => e = .returned (.string (mkB (padL y 4))) ∧ Below W.heap.size W w') := Py
  have H1 : Hid (∀ W, Calls Tryd.prog 33 #[.int .i64 m, .int .i64 2] W fun e w' => e = .returned (.string (mkB (padL m 2))) ∧ Below W.heap.size W w') := Pm
  have H2 : Hid (∀ W, Calls Tryd.prog 33 #[.int .i64 d, .int .i64 2] W fun e w' => e = .returned (.string (mkB (padL d 2))) ∧ Below W.heap.size W w') := Pd
  clear Py Pm Pd
  generalize mkB (padL y 4) = ty at *
  generalize mkB (padL m 2) = tm at *
  generalize mkB (padL d 2) = td at *
  obtain ⟨wa, n0, hwa, hn0, hz0, HBL, HCell0⟩ := box12g w true false false y m d 0 0 0 0 of lt
  have hba := Lib.hid (HBL _ _ (by omega) (Below.refl n0 w))
  have HCell := Lib.hid HCell0
  have HN : Hid (∀ a b, Below (n0 + 1) wa a → Below a.heap.size a b → Below (n0 + 1) wa b) := fun a b h1 h2 => h1.trans (h2.mono (by have := h1.size; omega))
  have HE : Hid (∀ W, Below (n0 + 1) wa W → Below w.heap.size w W) := fun W hW => by rw [hn0]; exact hba.out.trans (hW.mono (Nat.le_succ _))
  have hr0 : Hid (Below (n0 + 1) wa wa) := Below.refl _ _
  have hbd : Hid (Below (n0 + 1) wa wa.drew) := (Below.refl _ wa).drew
  clear HBL HCell0 hz0 hba
  obtain ⟨x0, x1, x2, x3, x4, x5, x6, x7, x8, x9, x10, x11⟩ := HCell.out wa (Below.refl _ _)
  have l1 : (9223372036854775807 < ty.size + 1) = False := eq_false (by omega)
  have l2 : (9223372036854775807 < ty.size + 1 + tm.size) = False := eq_false (by omega)
  have l3 : (9223372036854775807 < ty.size + 1 + tm.size + 1) = False := eq_false (by omega)
  have l4 : (9223372036854775807 < ty.size + 1 + tm.size + 1 + td.size) = False := eq_false (by omega)
  go_enter Tryd.func19, Tryd.ntmps19
  go_upto_region 3 with fail
  go_cut [3] (fun sv wx => sv = .string (ty ++ ⟨#[45]⟩ ++ tm ++ ⟨#[45]⟩ ++ td) ∧ Hid (Below (n0 + 1) wa wx))
  case first =>
    go_wp2_with fail
    go_region_law ((first | (go_simp; go_at_call 33; (with_reducible refine (H0.out _).mono ?_); rintro e w1 ⟨rfl, hbq⟩; have hb1 := Lib.hid (HN.out _ _ hbd.out hbq); clear hbq; obtain ⟨u0, u1, u2, u3, u4, u5, u6, u7, u8, u9, u10, u11⟩ := HCell.out w1 hb1.out) | (go_simp; go_at_call 33; (with_reducible refine (H1.out _).mono ?_); rintro e w2 ⟨rfl, hbq⟩; have hb2 := Lib.hid (HN.out _ _ hb1.out hbq); clear hbq; obtain ⟨v0, v1, v2, v3, v4, v5, v6, v7, v8, v9, v10, v11⟩ := HCell.out w2 hb2.out) | (go_simp; go_at_call 33; (with_reducible refine (H2.out _).mono ?_); rintro e w3 ⟨rfl, hbq⟩; have hb3 := Lib.hid (HN.out _ _ hb2.out hbq); clear hbq; obtain ⟨z0, z1, z2, z3, z4, z5, z6, z7, z8, z9, z10, z11⟩ := HCell.out w3 hb3.out)))
    all_goals
      first | go_meet | (go_wp2_with fail; go_meet) | (go_simp; go_meet)
      exact ⟨rfl, hb3⟩
  case rest =>
    obtain ⟨rfl, hB3⟩ := hcut
    obtain ⟨x0, x1, x2, x3, x4, x5, x6, x7, x8, x9, x10, x11⟩ := HCell.out wc hB3.out
    have hfin := Lib.hid (fun w' hw => HF.out (ty ++ ⟨#[45]⟩ ++ tm ++ ⟨#[45]⟩ ++ td) w' E0.out (HE.out w' hw))
    clear HF E0
    go_wp2
    first | exact hfin.out _ hB3.out | exact hfin.out _ hB3.out.drew
end Go.Proofs.YtckeefjmamggmaaDoor
