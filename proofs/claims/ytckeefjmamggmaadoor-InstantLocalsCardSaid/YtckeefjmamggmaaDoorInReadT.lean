/-
  Helper: the walk of read at a text that begins with its time.
-/
import Derived.Test.YtckeefjmamggmaaDoorInRead
namespace Go.Proofs.YtckeefjmamggmaaDoor
open Go.RowKit
set_option linter.unusedVariables false

set_option maxRecDepth 100000 in
set_option maxHeartbeats 8000000 in
theorem read_T (s : ByteArray) (w : World) (hs : s.size ≤ 1000000) (hD : 3 ≤ s.data.toList.length ∧ s.data.toList.getD 2 0 = 58) (R : Rd) (hR : R = rdT s.data.toList 0 z8 0) : Calls Tryd.prog 29 #[.string s] w (ReadP R w) := by
  have hlen : s.data.toList.length = s.size := by simp
  obtain ⟨N, hN⟩ : ∃ N, N = w.heap.size := ⟨_, rfl⟩
  have HS := Lib.hid (fun W h => scanner_any s N W h)
  have HF : Hid (∀ e w', e = .returned (.tuple #[.agg (tx R.2.1 R.2.2.1 R.2.2.2.1 R.2.2.2.2).toArray, .bool R.1]) → Below N w w' → ReadP R w e w') := fun e w' h1 h2 => ⟨h1, by rw [← hN]; exact h2⟩
  have hNh := Lib.hid hN
  generalize hPo : ReadP R w = Po at *
  clear hPo
  have W6 : Hid (∀ W, W = (((((w.alloc (.cells z11 43)).alloc (.cells z11 43)).alloc (.cells #[.string s] 9)).alloc (.cells #[.int .i64 0] 3)).alloc (.cells #[fT N] 63)).alloc (.cells #[fD N] 64) → St W N s 0 (tx 0 z8 0 0) ∧ Below N w W ∧ W.heap.size = N + 6) := fun W hW => by
    subst hW
    exact start_st s N w hN
  clear hN
  go_enter Tryd.func29, Tryd.ntmps29
  go_wp2_with fail
  refine (HS.out _ (by simp; have := hNh.out; omega)).mono ?_
  rintro e w1 ⟨rfl, rfl⟩
  unfold fT fD fE
  go_upto_region 4 with fail
  obtain ⟨S0, hb0, hz0⟩ := W6.out _ rfl
  have e5 : w.heap.size + 1 + 1 + 1 + 1 + 1 = N + 5 := by have := hNh.out; omega
  have e4 : w.heap.size + 1 + 1 + 1 + 1 = N + 4 := by have := hNh.out; omega
  have e1 : w.heap.size + 1 = N + 1 := by have := hNh.out; omega
  have e0 : w.heap.size = N := hNh.out.symm
  rw [e5, e4, e1, e0]
  clear e5 e4 e1 e0
  generalize hWW : (((((w.alloc (.cells z11 43)).alloc (.cells z11 43)).alloc (.cells #[.string s] 9)).alloc (.cells #[.int .i64 0] 3)).alloc (.cells #[fT N] 63)).alloc (.cells #[fD N] 64) = W at *
  unfold z11 fT fD at hWW
  rw [hWW]
  clear hWW W6
  have S0h0 := Lib.hid S0
  have hb0h := Lib.hid hb0
  clear S0 hb0
  go_cut [24] (fun b wx => b = .bool false ∧ wx = W)
  case first =>
    have hd3 : decide ((s.size : Int) < 3) = false := decide_eq_false (by omega)
    have h2 : 2 < s.size := by omega
    have h2i : (2 : Int) < (s.size : Int) := by omega
    have hne : (((s[2]).toNat : Int) != 58) = false := by
      rw [bne_eq_false_iff_eq]
      have e := hD.2
      rw [ba_getD s 2 h2] at e
      rw [e]; rfl
    go_wp2_with fail
    go_meet
    exact ⟨rfl, rfl⟩
  case rest =>
    obtain ⟨rfl, rfl⟩ := hcut
    have S0h : Hid (St wc N s 0 (tx 0 [0, 0, 0, 0, 0, 0, 0, 0] 0 0)) := S0h0.out
    have BEL0 : Hid (Below N wc wc) := Below.refl _ _
    have hR2 : R = rdT s.data.toList 0 [0, 0, 0, 0, 0, 0, 0, 0] 0 := hR
    clear hR hD S0h0
    have hR := hR2
    clear hR2
    rw [rdT] at hR
    have HG : Hid (Calls Tryd.prog 42 #[.int .i64 3, .int .i64 5, .string ⟨#[58]⟩, .pointer (some ⟨N + 4, 0, none⟩), .pointer (some ⟨N + 5, 0, none⟩), .pointer (some ⟨N + 1, 0, none⟩)] wc (GrpP N s 0 0 0 (grpF s.data.toList 58 3 3 3 0 [0, 0, 0, 0, 0, 0, 0, 0]) wc)) := group_any s 58 N 3 3 0 0 0 0 [0, 0, 0, 0, 0, 0, 0, 0] wc hs (by omega) (by omega) rfl (by omega) (by decide) S0h.out
    generalize grpF s.data.toList 58 3 3 3 0 [0, 0, 0, 0, 0, 0, 0, 0] = g at *
    obtain ⟨gok, gp, gf⟩ := g
    go_wp2_with fail
    refine HG.out.mono ?_
    rintro e wg ⟨rfl, Sg0, Og0, hgp, hgf⟩
    have Sg := Lib.hid Sg0
    have hgfh := Lib.hid hgf
    have BELg : Hid (Below N wc wg) := (BEL0.out).trans Og0.1
    clear Sg0 Og0 hgf HG
    have hgp' : gp ≤ s.size := hgp
    cases gok with
    | false =>
      have hRe : Hid (R = bad5) := hR
      have hBz := Sg.out.2.2.2.2.2
      go_wp2_with (refine wpList_store_row rfl 43 (.tmp 2) (.tmp 39) rfl N _ rfl rfl 43 _ hBz (by kernel_rfl) (by kernel_rfl) (by kernel_rfl) ?_)
      refine bodyPost_ret (v := .tuple #[.agg (tx 0 z8 0 0).toArray, .bool false]) (fin_tx _ _ N (tx 0 z8 0 0) _ rfl rfl (row_tx (Y := tx 0 z8 0 0) hBz) rfl) rfl (HF.out _ _ (by rw [hRe.out]; rfl) (below_row (hb0h.out.trans BELg.out) (Nat.le_refl _) _))
    | true =>
      obtain ⟨b0, b1, b2, b3, b4, b5, b6, b7, rfl⟩ := list8 gf hgfh.out
      rw [if_pos rfl] at hR
      have hR2 : R = rdF s.data.toList 2 [b0, b1, b2, b3, b4, b5, b6, b7] gp := hR
      clear hR
      have hR := hR2
      clear hR2
      have hor : bits .or .i64 0 2 = 2 := by decide
      have cx := Sg.out.1.cell 0 _ rfl
      have fx := Sg.out.1.free 0
      have S3 : Hid (St (wg.setCell ⟨N + 1, 0, none⟩ (.int .i64 2)) N s gp (tx 2 [b0, b1, b2, b3, b4, b5, b6, b7] 0 0)) := Sg.out.put 0 (.int .i64 2)
      have BEL3 : Hid (Below N wc (wg.setCell ⟨N + 1, 0, none⟩ (.int .i64 2))) := BELg.out.setCell (by show N ≤ N + 1; omega) _
      generalize hw3 : wg.setCell ⟨N + 1, 0, none⟩ (.int .i64 2) = w3 at *
      by_cases hF : gp < s.size ∧ s.data.toList.getD gp 0 ∈ [46]
      · have HT0 := take_yes ⟨#[46]⟩ s (N + 3) (N + 2) gp w3 hs hF S3.out.2.1 S3.out.2.2.1 (by omega)
        have hc : s.data.toList.getD gp 0 = 46 := by simpa using hF.2
        rw [hc] at HT0
        have HT := Lib.hid HT0
        clear HT0
        have ct := S3.out.2.2.2.1.cell 0 _ rfl
        rw [rdF, if_pos (by rw [hlen]; exact hF)] at hR
        have hPs : gp + 1 ≤ s.size := by omega
        clear hF hc
        go_wp2_with fail
        refine HT.out.mono ?_
        rintro e wt ⟨rfl, hon, hat⟩
        have St1 : Hid (St wt N s (gp + 1) (tx 2 [b0, b1, b2, b3, b4, b5, b6, b7] 0 0)) := S3.out.only hon hat
        have BELt1 : Hid (Below N wc wt) := (BEL3.out).trans (hon.1.mono (by omega))
        clear hon hat ct HT
        have c4 := St1.out.2.2.2.2.1.cell 0 _ rfl
        have HDg := Lib.hid (digits_any s (N + 3) (N + 2) (gp + 1) 9 wt hs hPs (by omega) St1.out.2.1 St1.out.2.2.1 (by omega))
        have hrl := rn_le s.data.toList (gp + 1) 9
        obtain ⟨hx1, hx2⟩ := ext_facts s (gp + 1) (rn s.data.toList (gp + 1) 9) (by omega)
        have hx3 := Lib.hid (ext_digs s (gp + 1) 9)
        go_wp2_with fail
        refine HDg.out.mono ?_
        rintro e wd ⟨rfl, hon, hat⟩
        have Sd : Hid (St wd N s (gp + 1 + rn s.data.toList (gp + 1) 9) (tx 2 [b0, b1, b2, b3, b4, b5, b6, b7] 0 0)) := St1.out.only hon hat
        have BELd : Hid (Below N wc wd) := BELt1.out.trans (hon.1.mono (by omega))
        clear hon hat c4 HDg
        generalize s.extract (gp + 1) (gp + 1 + rn s.data.toList (gp + 1) 9) = d at *
        have hx1h := Lib.hid hx1
        have hx2h := Lib.hid hx2
        clear hx1 hx2
        by_cases hr0 : rn s.data.toList (gp + 1) 9 = 0
        · rw [if_pos hr0] at hR
          have hdn : d.toList = [] := by
            rw [Lib.toList_data, hx2h.out, hr0]; rfl
          clear hr0
          have hRe : Hid (R = bad5) := hR
          have hBz := Sd.out.2.2.2.2.2
          go_wp2_with (refine wpList_store_row rfl 43 (.tmp 2) (.tmp 51) rfl N _ rfl rfl 43 _ hBz (by kernel_rfl) (by kernel_rfl) (by kernel_rfl) ?_)
          refine bodyPost_ret (v := .tuple #[.agg (tx 0 z8 0 0).toArray, .bool false]) (fin_tx _ _ N (tx 0 z8 0 0) _ rfl rfl (row_tx (Y := tx 0 z8 0 0) hBz) rfl) rfl (HF.out _ _ (by rw [hRe.out]; rfl) (below_row (hb0h.out.trans BELd.out) (Nat.le_refl _) _))
        · rw [if_neg hr0] at hR
          have hdn : d.toList.isEmpty = false := by
            rw [Lib.toList_data]
            cases he : d.data.toList with
            | nil =>
              exfalso
              have h9 : d.data.toList.length = d.size := by simp
              rw [he] at h9
              have h8 := hx1h.out
              simp at h9
              omega
            | cons x y => rfl
          have hdz : d.size ≤ 9 := by have := hx1h.out; omega
          have hdzi : (d.size : Int) ≤ 9 := by omega
          have HRp := Lib.hid (fun W => repeat_zero (9 - d.size) W (by omega))
          have hci : (9 : Int) - (d.size : Int) = ((9 - d.size : Nat) : Int) := by omega
          have HNu : Hid (∀ W, Calls Tryd.prog 44 #[.string (d ++ ⟨(List.replicate (9 - d.size) 48).toArray⟩)] W fun e w' => e = .returned (.int .i64 (numv ((s.data.toList.drop (gp + 1)).take (rn s.data.toList (gp + 1) 9) ++ List.replicate (9 - rn s.data.toList (gp + 1) 9) 48) : Nat)) ∧ W = w') := fun W => by
            have h7 : (d ++ ⟨(List.replicate (9 - d.size) 48).toArray⟩ : ByteArray).data.toList = (s.data.toList.drop (gp + 1)).take (rn s.data.toList (gp + 1) 9) ++ List.replicate (9 - rn s.data.toList (gp + 1) 9) 48 := by
              rw [← hx2h.out, ← hx1h.out]; exact app_rep d _
            have := number_any (d ++ ⟨(List.replicate (9 - d.size) 48).toArray⟩) W (by rw [app_rep_size]; omega) (fun c hc => by
              rw [h7] at hc
              rcases List.mem_append.1 hc with hc | hc
              · exact hx3.out c hc
              · rw [List.eq_of_mem_replicate hc]; decide)
            rw [h7] at this
            exact this
          obtain ⟨rp, hrp⟩ : ∃ rp : ByteArray, rp = ⟨(List.replicate (9 - d.size) 48).toArray⟩ := ⟨_, rfl⟩
          rw [← hrp] at HRp HNu
          have hrz : rp.size ≤ 9 := by rw [hrp, rep_size]; omega
          clear hrp hr0
          generalize hnv : numv ((s.data.toList.drop (gp + 1)).take (rn s.data.toList (gp + 1) 9) ++ List.replicate (9 - rn s.data.toList (gp + 1) 9) 48) = nv at *
          clear hnv
          have hq : gp + 1 + rn s.data.toList (gp + 1) 9 ≤ s.size := by omega
          generalize gp + 1 + rn s.data.toList (gp + 1) 9 = q at *
          clear hrl hx1h hx2h hx3
          generalize hdc : 9 - d.size = dc at *
          clear hdc
          go_wp2_with fail
          refine (HRp.out _).mono ?_
          rintro e wr ⟨rfl, hbr⟩
          have Sr : Hid (St wr N s q (tx 2 [b0, b1, b2, b3, b4, b5, b6, b7] 0 0)) := Sd.out.below hbr
          have BELr : Hid (Below N wc wr) := BELd.out.trans (hbr.mono (Nat.le_of_lt Sd.out.2.2.2.2.2.lt))
          clear hbr
          go_wp2_with fail
          refine (HNu.out _).mono ?_
          rintro e w3 ⟨rfl, rfl⟩
          have cn := Sr.out.1.cell 9 _ rfl
          have fn := Sr.out.1.free 9
          have Sn : Hid (St (wr.setCell ⟨N + 1, 9, none⟩ (.int .i64 nv)) N s q (tx 2 [b0, b1, b2, b3, b4, b5, b6, b7] nv 0)) := Sr.out.put 9 (.int .i64 nv)
          have BELn : Hid (Below N wc (wr.setCell ⟨N + 1, 9, none⟩ (.int .i64 nv))) := BELr.out.setCell (by show N ≤ N + 1; omega) _
          generalize hwn : wr.setCell ⟨N + 1, 9, none⟩ (.int .i64 nv) = wn at *
          have ct := Sn.out.2.2.2.1.cell 0 _ rfl
          by_cases hZ : q < s.size ∧ s.data.toList.getD q 0 ∈ [90, 43, 45]
          · have hc3 : s.data.toList.getD q 0 = 90 ∨ s.data.toList.getD q 0 = 43 ∨ s.data.toList.getD q 0 = 45 := by simpa using hZ.2
            rcases hc3 with hc | hc | hc
            · have HT0 := take_yes ⟨#[90, 43, 45]⟩ s (N + 3) (N + 2) q wn hs hZ Sn.out.2.1 Sn.out.2.2.1 (by omega)
              rw [hc] at HT0
              have HT := Lib.hid HT0
              clear HT0
              have ct := Sn.out.2.2.2.1.cell 0 _ rfl
              rw [rdZ, if_pos (by rw [hlen]; exact hZ), hc] at hR
              have hPs : q + 1 ≤ s.size := by omega
              clear hZ hc
              go_wp2_with fail
              refine HT.out.mono ?_
              rintro e wt ⟨rfl, hon, hat⟩
              have St1 : Hid (St wt N s (q + 1) (tx 2 [b0, b1, b2, b3, b4, b5, b6, b7] nv 0)) := Sn.out.only hon hat
              have BELt1 : Hid (Below N wc wt) := (BELn.out).trans (hon.1.mono (by omega))
              clear hon hat ct HT
              have cz := St1.out.1.cell 10 _ rfl
              have fz := St1.out.1.free 10
              have Sz2 : Hid (St (wt.setCell ⟨N + 1, 10, none⟩ (.int .u8 90)) N s (q + 1) (tx 2 [b0, b1, b2, b3, b4, b5, b6, b7] nv 90)) := St1.out.put 10 (.int .u8 90)
              have BELz2 : Hid (Below N wc (wt.setCell ⟨N + 1, 10, none⟩ (.int .u8 90))) := BELt1.out.setCell (by show N ≤ N + 1; omega) _
              generalize hwz : wt.setCell ⟨N + 1, 10, none⟩ (.int .u8 90) = wz2 at *
              have cz2 := Sz2.out.1.cell 10 _ rfl
              have hRe : Hid (R = (decide (q + 1 = s.size), 2, [b0, b1, b2, b3, b4, b5, b6, b7], nv, 90)) := by
                show _ = _
                rw [hR]
                first | rw [if_pos rfl] | rw [if_pos trivial]
                rw [hlen]; rfl
              clear hR
              go_wp2_with fail
              try rw [hwz]
              have HEn := Lib.hid (fun W (h : W = wz2.drew) => ended_any s (N + 3) (N + 2) (q + 1) W hs (by subst h; exact Sz2.out.2.1) (by subst h; exact Sz2.out.2.2.1))
              have x0 := Sz2.out.1.cell 0 _ rfl
              have y0 := Sz2.out.2.2.2.2.2.cell 0 _ rfl
              have q0 := Sz2.out.2.2.2.2.2.free 0
              have x1 := Sz2.out.1.cell 1 _ rfl
              have y1 := Sz2.out.2.2.2.2.2.cell 1 _ rfl
              have q1 := Sz2.out.2.2.2.2.2.free 1
              have x2 := Sz2.out.1.cell 2 _ rfl
              have y2 := Sz2.out.2.2.2.2.2.cell 2 _ rfl
              have q2 := Sz2.out.2.2.2.2.2.free 2
              have x3 := Sz2.out.1.cell 3 _ rfl
              have y3 := Sz2.out.2.2.2.2.2.cell 3 _ rfl
              have q3 := Sz2.out.2.2.2.2.2.free 3
              have x4 := Sz2.out.1.cell 4 _ rfl
              have y4 := Sz2.out.2.2.2.2.2.cell 4 _ rfl
              have q4 := Sz2.out.2.2.2.2.2.free 4
              have x5 := Sz2.out.1.cell 5 _ rfl
              have y5 := Sz2.out.2.2.2.2.2.cell 5 _ rfl
              have q5 := Sz2.out.2.2.2.2.2.free 5
              have x6 := Sz2.out.1.cell 6 _ rfl
              have y6 := Sz2.out.2.2.2.2.2.cell 6 _ rfl
              have q6 := Sz2.out.2.2.2.2.2.free 6
              have x7 := Sz2.out.1.cell 7 _ rfl
              have y7 := Sz2.out.2.2.2.2.2.cell 7 _ rfl
              have q7 := Sz2.out.2.2.2.2.2.free 7
              have x8 := Sz2.out.1.cell 8 _ rfl
              have y8 := Sz2.out.2.2.2.2.2.cell 8 _ rfl
              have q8 := Sz2.out.2.2.2.2.2.free 8
              have x9 := Sz2.out.1.cell 9 _ rfl
              have y9 := Sz2.out.2.2.2.2.2.cell 9 _ rfl
              have q9 := Sz2.out.2.2.2.2.2.free 9
              have x10 := Sz2.out.1.cell 10 _ rfl
              have y10 := Sz2.out.2.2.2.2.2.cell 10 _ rfl
              have q10 := Sz2.out.2.2.2.2.2.free 10
              go_region_law ((go_simp; go_at_call 55; refine (HEn.out _ rfl).mono ?_; rintro e w3 ⟨rfl, rfl⟩))
              all_goals
                rw [set11 (X := tx 0 z8 0 0) Sz2.out.2.2.2.2.2 rfl]
                go_wp2
                refine bodyPost_ret (v := .tuple #[.agg (tx 2 [b0, b1, b2, b3, b4, b5, b6, b7] nv 90).toArray, .bool (decide ((q + 1) = s.size))]) (fin_tx _ _ N (tx 2 [b0, b1, b2, b3, b4, b5, b6, b7] nv 90) _ rfl rfl (row_tx (Y := tx 2 [b0, b1, b2, b3, b4, b5, b6, b7] nv 90) Sz2.out.2.2.2.2.2) rfl) rfl (HF.out _ _ (by rw [hRe.out]) (below_row (hb0h.out.trans BELz2.out).drew (Nat.le_refl _) _))
            · have HT0 := take_yes ⟨#[90, 43, 45]⟩ s (N + 3) (N + 2) q wn hs hZ Sn.out.2.1 Sn.out.2.2.1 (by omega)
              rw [hc] at HT0
              have HT := Lib.hid HT0
              clear HT0
              have ct := Sn.out.2.2.2.1.cell 0 _ rfl
              rw [rdZ, if_pos (by rw [hlen]; exact hZ), hc] at hR
              have hPs : q + 1 ≤ s.size := by omega
              clear hZ hc
              go_wp2_with fail
              refine HT.out.mono ?_
              rintro e wt ⟨rfl, hon, hat⟩
              have St1 : Hid (St wt N s (q + 1) (tx 2 [b0, b1, b2, b3, b4, b5, b6, b7] nv 0)) := Sn.out.only hon hat
              have BELt1 : Hid (Below N wc wt) := (BELn.out).trans (hon.1.mono (by omega))
              clear hon hat ct HT
              have cz := St1.out.1.cell 10 _ rfl
              have fz := St1.out.1.free 10
              have Sz2 : Hid (St (wt.setCell ⟨N + 1, 10, none⟩ (.int .u8 43)) N s (q + 1) (tx 2 [b0, b1, b2, b3, b4, b5, b6, b7] nv 43)) := St1.out.put 10 (.int .u8 43)
              have BELz2 : Hid (Below N wc (wt.setCell ⟨N + 1, 10, none⟩ (.int .u8 43))) := BELt1.out.setCell (by show N ≤ N + 1; omega) _
              generalize hwz : wt.setCell ⟨N + 1, 10, none⟩ (.int .u8 43) = wz2 at *
              have cz2 := Sz2.out.1.cell 10 _ rfl
              rw [if_neg (by decide)] at hR
              clear St1 BELt1
              have HG : Hid (Calls Tryd.prog 42 #[.int .i64 6, .int .i64 7, .string ⟨#[58]⟩, .pointer (some ⟨N + 4, 0, none⟩), .pointer (some ⟨N + 5, 0, none⟩), .pointer (some ⟨N + 1, 0, none⟩)] wz2 (GrpP N s 2 nv 43 (grpF s.data.toList 58 6 2 6 (q + 1) [b0, b1, b2, b3, b4, b5, b6, b7]) wz2)) := group_any s 58 N 6 2 (q + 1) 2 nv 43 [b0, b1, b2, b3, b4, b5, b6, b7] wz2 hs (by omega) (by omega) rfl (by omega) (by decide) Sz2.out
              generalize grpF s.data.toList 58 6 2 6 (q + 1) [b0, b1, b2, b3, b4, b5, b6, b7] = g at *
              obtain ⟨gok, gp, gf⟩ := g
              go_wp2_with fail
              refine HG.out.mono ?_
              rintro e wg ⟨rfl, Sg0, Og0, hgp, hgf⟩
              have Sg := Lib.hid Sg0
              have hgfh := Lib.hid hgf
              have BELg : Hid (Below N wc wg) := (BELz2.out).trans Og0.1
              clear Sg0 Og0 hgf HG
              have hgp' : gp ≤ s.size := hgp
              cases gok with
              | false =>
                have hRe : Hid (R = bad5) := hR
                have hBz := Sg.out.2.2.2.2.2
                go_wp2_with (refine wpList_store_row rfl 43 (.tmp 2) (.tmp 76) rfl N _ rfl rfl 43 _ hBz (by kernel_rfl) (by kernel_rfl) (by kernel_rfl) ?_)
                refine bodyPost_ret (v := .tuple #[.agg (tx 0 z8 0 0).toArray, .bool false]) (fin_tx _ _ N (tx 0 z8 0 0) _ rfl rfl (row_tx (Y := tx 0 z8 0 0) hBz) rfl) rfl (HF.out _ _ (by rw [hRe.out]; rfl) (below_row (hb0h.out.trans BELg.out) (Nat.le_refl _) _))
              | true =>
                obtain ⟨c0, c1, c2, c3, c4, c5, c6, c7, rfl⟩ := list8 gf hgfh.out
                have hRe : Hid (R = (decide (gp = s.size), 2, [c0, c1, c2, c3, c4, c5, c6, c7], nv, 43)) := by
                  show _ = _
                  rw [hR, if_pos rfl, hlen]; rfl
                clear hR
                go_wp2_with fail
                have HEn := Lib.hid (fun W (h : W = wg.drew) => ended_any s (N + 3) (N + 2) gp W hs (by subst h; exact Sg.out.2.1) (by subst h; exact Sg.out.2.2.1))
                have x0 := Sg.out.1.cell 0 _ rfl
                have y0 := Sg.out.2.2.2.2.2.cell 0 _ rfl
                have q0 := Sg.out.2.2.2.2.2.free 0
                have x1 := Sg.out.1.cell 1 _ rfl
                have y1 := Sg.out.2.2.2.2.2.cell 1 _ rfl
                have q1 := Sg.out.2.2.2.2.2.free 1
                have x2 := Sg.out.1.cell 2 _ rfl
                have y2 := Sg.out.2.2.2.2.2.cell 2 _ rfl
                have q2 := Sg.out.2.2.2.2.2.free 2
                have x3 := Sg.out.1.cell 3 _ rfl
                have y3 := Sg.out.2.2.2.2.2.cell 3 _ rfl
                have q3 := Sg.out.2.2.2.2.2.free 3
                have x4 := Sg.out.1.cell 4 _ rfl
                have y4 := Sg.out.2.2.2.2.2.cell 4 _ rfl
                have q4 := Sg.out.2.2.2.2.2.free 4
                have x5 := Sg.out.1.cell 5 _ rfl
                have y5 := Sg.out.2.2.2.2.2.cell 5 _ rfl
                have q5 := Sg.out.2.2.2.2.2.free 5
                have x6 := Sg.out.1.cell 6 _ rfl
                have y6 := Sg.out.2.2.2.2.2.cell 6 _ rfl
                have q6 := Sg.out.2.2.2.2.2.free 6
                have x7 := Sg.out.1.cell 7 _ rfl
                have y7 := Sg.out.2.2.2.2.2.cell 7 _ rfl
                have q7 := Sg.out.2.2.2.2.2.free 7
                have x8 := Sg.out.1.cell 8 _ rfl
                have y8 := Sg.out.2.2.2.2.2.cell 8 _ rfl
                have q8 := Sg.out.2.2.2.2.2.free 8
                have x9 := Sg.out.1.cell 9 _ rfl
                have y9 := Sg.out.2.2.2.2.2.cell 9 _ rfl
                have q9 := Sg.out.2.2.2.2.2.free 9
                have x10 := Sg.out.1.cell 10 _ rfl
                have y10 := Sg.out.2.2.2.2.2.cell 10 _ rfl
                have q10 := Sg.out.2.2.2.2.2.free 10
                go_region_law ((go_simp; go_at_call 55; refine (HEn.out _ rfl).mono ?_; rintro e w3 ⟨rfl, rfl⟩))
                all_goals
                  rw [set11 (X := tx 0 z8 0 0) Sg.out.2.2.2.2.2 rfl]
                  go_wp2
                  refine bodyPost_ret (v := .tuple #[.agg (tx 2 [c0, c1, c2, c3, c4, c5, c6, c7] nv 43).toArray, .bool (decide (gp = s.size))]) (fin_tx _ _ N (tx 2 [c0, c1, c2, c3, c4, c5, c6, c7] nv 43) _ rfl rfl (row_tx (Y := tx 2 [c0, c1, c2, c3, c4, c5, c6, c7] nv 43) Sg.out.2.2.2.2.2) rfl) rfl (HF.out _ _ (by rw [hRe.out]) (below_row (hb0h.out.trans BELg.out).drew (Nat.le_refl _) _))
            · have HT0 := take_yes ⟨#[90, 43, 45]⟩ s (N + 3) (N + 2) q wn hs hZ Sn.out.2.1 Sn.out.2.2.1 (by omega)
              rw [hc] at HT0
              have HT := Lib.hid HT0
              clear HT0
              have ct := Sn.out.2.2.2.1.cell 0 _ rfl
              rw [rdZ, if_pos (by rw [hlen]; exact hZ), hc] at hR
              have hPs : q + 1 ≤ s.size := by omega
              clear hZ hc
              go_wp2_with fail
              refine HT.out.mono ?_
              rintro e wt ⟨rfl, hon, hat⟩
              have St1 : Hid (St wt N s (q + 1) (tx 2 [b0, b1, b2, b3, b4, b5, b6, b7] nv 0)) := Sn.out.only hon hat
              have BELt1 : Hid (Below N wc wt) := (BELn.out).trans (hon.1.mono (by omega))
              clear hon hat ct HT
              have cz := St1.out.1.cell 10 _ rfl
              have fz := St1.out.1.free 10
              have Sz2 : Hid (St (wt.setCell ⟨N + 1, 10, none⟩ (.int .u8 45)) N s (q + 1) (tx 2 [b0, b1, b2, b3, b4, b5, b6, b7] nv 45)) := St1.out.put 10 (.int .u8 45)
              have BELz2 : Hid (Below N wc (wt.setCell ⟨N + 1, 10, none⟩ (.int .u8 45))) := BELt1.out.setCell (by show N ≤ N + 1; omega) _
              generalize hwz : wt.setCell ⟨N + 1, 10, none⟩ (.int .u8 45) = wz2 at *
              have cz2 := Sz2.out.1.cell 10 _ rfl
              rw [if_neg (by decide)] at hR
              clear St1 BELt1
              have HG : Hid (Calls Tryd.prog 42 #[.int .i64 6, .int .i64 7, .string ⟨#[58]⟩, .pointer (some ⟨N + 4, 0, none⟩), .pointer (some ⟨N + 5, 0, none⟩), .pointer (some ⟨N + 1, 0, none⟩)] wz2 (GrpP N s 2 nv 45 (grpF s.data.toList 58 6 2 6 (q + 1) [b0, b1, b2, b3, b4, b5, b6, b7]) wz2)) := group_any s 58 N 6 2 (q + 1) 2 nv 45 [b0, b1, b2, b3, b4, b5, b6, b7] wz2 hs (by omega) (by omega) rfl (by omega) (by decide) Sz2.out
              generalize grpF s.data.toList 58 6 2 6 (q + 1) [b0, b1, b2, b3, b4, b5, b6, b7] = g at *
              obtain ⟨gok, gp, gf⟩ := g
              go_wp2_with fail
              refine HG.out.mono ?_
              rintro e wg ⟨rfl, Sg0, Og0, hgp, hgf⟩
              have Sg := Lib.hid Sg0
              have hgfh := Lib.hid hgf
              have BELg : Hid (Below N wc wg) := (BELz2.out).trans Og0.1
              clear Sg0 Og0 hgf HG
              have hgp' : gp ≤ s.size := hgp
              cases gok with
              | false =>
                have hRe : Hid (R = bad5) := hR
                have hBz := Sg.out.2.2.2.2.2
                go_wp2_with (refine wpList_store_row rfl 43 (.tmp 2) (.tmp 76) rfl N _ rfl rfl 43 _ hBz (by kernel_rfl) (by kernel_rfl) (by kernel_rfl) ?_)
                refine bodyPost_ret (v := .tuple #[.agg (tx 0 z8 0 0).toArray, .bool false]) (fin_tx _ _ N (tx 0 z8 0 0) _ rfl rfl (row_tx (Y := tx 0 z8 0 0) hBz) rfl) rfl (HF.out _ _ (by rw [hRe.out]; rfl) (below_row (hb0h.out.trans BELg.out) (Nat.le_refl _) _))
              | true =>
                obtain ⟨c0, c1, c2, c3, c4, c5, c6, c7, rfl⟩ := list8 gf hgfh.out
                have hRe : Hid (R = (decide (gp = s.size), 2, [c0, c1, c2, c3, c4, c5, c6, c7], nv, 45)) := by
                  show _ = _
                  rw [hR, if_pos rfl, hlen]; rfl
                clear hR
                go_wp2_with fail
                have HEn := Lib.hid (fun W (h : W = wg.drew) => ended_any s (N + 3) (N + 2) gp W hs (by subst h; exact Sg.out.2.1) (by subst h; exact Sg.out.2.2.1))
                have x0 := Sg.out.1.cell 0 _ rfl
                have y0 := Sg.out.2.2.2.2.2.cell 0 _ rfl
                have q0 := Sg.out.2.2.2.2.2.free 0
                have x1 := Sg.out.1.cell 1 _ rfl
                have y1 := Sg.out.2.2.2.2.2.cell 1 _ rfl
                have q1 := Sg.out.2.2.2.2.2.free 1
                have x2 := Sg.out.1.cell 2 _ rfl
                have y2 := Sg.out.2.2.2.2.2.cell 2 _ rfl
                have q2 := Sg.out.2.2.2.2.2.free 2
                have x3 := Sg.out.1.cell 3 _ rfl
                have y3 := Sg.out.2.2.2.2.2.cell 3 _ rfl
                have q3 := Sg.out.2.2.2.2.2.free 3
                have x4 := Sg.out.1.cell 4 _ rfl
                have y4 := Sg.out.2.2.2.2.2.cell 4 _ rfl
                have q4 := Sg.out.2.2.2.2.2.free 4
                have x5 := Sg.out.1.cell 5 _ rfl
                have y5 := Sg.out.2.2.2.2.2.cell 5 _ rfl
                have q5 := Sg.out.2.2.2.2.2.free 5
                have x6 := Sg.out.1.cell 6 _ rfl
                have y6 := Sg.out.2.2.2.2.2.cell 6 _ rfl
                have q6 := Sg.out.2.2.2.2.2.free 6
                have x7 := Sg.out.1.cell 7 _ rfl
                have y7 := Sg.out.2.2.2.2.2.cell 7 _ rfl
                have q7 := Sg.out.2.2.2.2.2.free 7
                have x8 := Sg.out.1.cell 8 _ rfl
                have y8 := Sg.out.2.2.2.2.2.cell 8 _ rfl
                have q8 := Sg.out.2.2.2.2.2.free 8
                have x9 := Sg.out.1.cell 9 _ rfl
                have y9 := Sg.out.2.2.2.2.2.cell 9 _ rfl
                have q9 := Sg.out.2.2.2.2.2.free 9
                have x10 := Sg.out.1.cell 10 _ rfl
                have y10 := Sg.out.2.2.2.2.2.cell 10 _ rfl
                have q10 := Sg.out.2.2.2.2.2.free 10
                go_region_law ((go_simp; go_at_call 55; refine (HEn.out _ rfl).mono ?_; rintro e w3 ⟨rfl, rfl⟩))
                all_goals
                  rw [set11 (X := tx 0 z8 0 0) Sg.out.2.2.2.2.2 rfl]
                  go_wp2
                  refine bodyPost_ret (v := .tuple #[.agg (tx 2 [c0, c1, c2, c3, c4, c5, c6, c7] nv 45).toArray, .bool (decide (gp = s.size))]) (fin_tx _ _ N (tx 2 [c0, c1, c2, c3, c4, c5, c6, c7] nv 45) _ rfl rfl (row_tx (Y := tx 2 [c0, c1, c2, c3, c4, c5, c6, c7] nv 45) Sg.out.2.2.2.2.2) rfl) rfl (HF.out _ _ (by rw [hRe.out]) (below_row (hb0h.out.trans BELg.out).drew (Nat.le_refl _) _))
          · have HT := Lib.hid (take_no ⟨#[90, 43, 45]⟩ s (N + 3) (N + 2) q wn hs (by omega) hZ Sn.out.2.1 Sn.out.2.2.1)
            have hRe : Hid (R = (decide (q = s.size), 2, [b0, b1, b2, b3, b4, b5, b6, b7], nv, 0)) := by
              show _ = _
              rw [hR, rdZ, if_neg (by rw [hlen]; exact hZ), hlen]
            have ct := Sn.out.2.2.2.1.cell 0 _ rfl
            have cz := Sn.out.1.cell 10 _ rfl
            have fz := Sn.out.1.free 10
            have Sz2 : Hid (St (wn.setCell ⟨N + 1, 10, none⟩ (.int .u8 0)) N s q (tx 2 [b0, b1, b2, b3, b4, b5, b6, b7] nv 0)) := Sn.out.put 10 (.int .u8 0)
            have BELz2 : Hid (Below N wc (wn.setCell ⟨N + 1, 10, none⟩ (.int .u8 0))) := (BELn.out).setCell (by show N ≤ N + 1; omega) _
            clear hZ hR
            generalize hwz : wn.setCell ⟨N + 1, 10, none⟩ (.int .u8 0) = wz2 at *
            have cz2 := Sz2.out.1.cell 10 _ rfl
            go_wp2_with fail
            refine HT.out.mono ?_
            rintro e w3 ⟨rfl, rfl⟩
            try rw [hwz]
            go_wp2_with fail
            try rw [hwz]
            have HEn := Lib.hid (fun W (h : W = wz2.drew) => ended_any s (N + 3) (N + 2) q W hs (by subst h; exact Sz2.out.2.1) (by subst h; exact Sz2.out.2.2.1))
            have x0 := Sz2.out.1.cell 0 _ rfl
            have y0 := Sz2.out.2.2.2.2.2.cell 0 _ rfl
            have q0 := Sz2.out.2.2.2.2.2.free 0
            have x1 := Sz2.out.1.cell 1 _ rfl
            have y1 := Sz2.out.2.2.2.2.2.cell 1 _ rfl
            have q1 := Sz2.out.2.2.2.2.2.free 1
            have x2 := Sz2.out.1.cell 2 _ rfl
            have y2 := Sz2.out.2.2.2.2.2.cell 2 _ rfl
            have q2 := Sz2.out.2.2.2.2.2.free 2
            have x3 := Sz2.out.1.cell 3 _ rfl
            have y3 := Sz2.out.2.2.2.2.2.cell 3 _ rfl
            have q3 := Sz2.out.2.2.2.2.2.free 3
            have x4 := Sz2.out.1.cell 4 _ rfl
            have y4 := Sz2.out.2.2.2.2.2.cell 4 _ rfl
            have q4 := Sz2.out.2.2.2.2.2.free 4
            have x5 := Sz2.out.1.cell 5 _ rfl
            have y5 := Sz2.out.2.2.2.2.2.cell 5 _ rfl
            have q5 := Sz2.out.2.2.2.2.2.free 5
            have x6 := Sz2.out.1.cell 6 _ rfl
            have y6 := Sz2.out.2.2.2.2.2.cell 6 _ rfl
            have q6 := Sz2.out.2.2.2.2.2.free 6
            have x7 := Sz2.out.1.cell 7 _ rfl
            have y7 := Sz2.out.2.2.2.2.2.cell 7 _ rfl
            have q7 := Sz2.out.2.2.2.2.2.free 7
            have x8 := Sz2.out.1.cell 8 _ rfl
            have y8 := Sz2.out.2.2.2.2.2.cell 8 _ rfl
            have q8 := Sz2.out.2.2.2.2.2.free 8
            have x9 := Sz2.out.1.cell 9 _ rfl
            have y9 := Sz2.out.2.2.2.2.2.cell 9 _ rfl
            have q9 := Sz2.out.2.2.2.2.2.free 9
            have x10 := Sz2.out.1.cell 10 _ rfl
            have y10 := Sz2.out.2.2.2.2.2.cell 10 _ rfl
            have q10 := Sz2.out.2.2.2.2.2.free 10
            go_region_law ((go_simp; go_at_call 55; refine (HEn.out _ rfl).mono ?_; rintro e w3 ⟨rfl, rfl⟩))
            all_goals
              rw [set11 (X := tx 0 z8 0 0) Sz2.out.2.2.2.2.2 rfl]
              go_wp2
              refine bodyPost_ret (v := .tuple #[.agg (tx 2 [b0, b1, b2, b3, b4, b5, b6, b7] nv 0).toArray, .bool (decide (q = s.size))]) (fin_tx _ _ N (tx 2 [b0, b1, b2, b3, b4, b5, b6, b7] nv 0) _ rfl rfl (row_tx (Y := tx 2 [b0, b1, b2, b3, b4, b5, b6, b7] nv 0) Sz2.out.2.2.2.2.2) rfl) rfl (HF.out _ _ (by rw [hRe.out]) (below_row (hb0h.out.trans BELz2.out).drew (Nat.le_refl _) _))
      · have HT := Lib.hid (take_no ⟨#[46]⟩ s (N + 3) (N + 2) gp w3 hs (by omega) hF S3.out.2.1 S3.out.2.2.1)
        have ct := S3.out.2.2.2.1.cell 0 _ rfl
        rw [rdF, if_neg (by rw [hlen]; exact hF)] at hR
        clear hF
        go_wp2_with fail
        refine HT.out.mono ?_
        rintro e w3 ⟨rfl, rfl⟩
        clear ct HT
        by_cases hZ : gp < s.size ∧ s.data.toList.getD gp 0 ∈ [90, 43, 45]
        · have hc3 : s.data.toList.getD gp 0 = 90 ∨ s.data.toList.getD gp 0 = 43 ∨ s.data.toList.getD gp 0 = 45 := by simpa using hZ.2
          rcases hc3 with hc | hc | hc
          · have HT0 := take_yes ⟨#[90, 43, 45]⟩ s (N + 3) (N + 2) gp w3 hs hZ S3.out.2.1 S3.out.2.2.1 (by omega)
            rw [hc] at HT0
            have HT := Lib.hid HT0
            clear HT0
            have ct := S3.out.2.2.2.1.cell 0 _ rfl
            rw [rdZ, if_pos (by rw [hlen]; exact hZ), hc] at hR
            have hPs : gp + 1 ≤ s.size := by omega
            clear hZ hc
            go_wp2_with fail
            refine HT.out.mono ?_
            rintro e wt ⟨rfl, hon, hat⟩
            have St1 : Hid (St wt N s (gp + 1) (tx 2 [b0, b1, b2, b3, b4, b5, b6, b7] 0 0)) := S3.out.only hon hat
            have BELt1 : Hid (Below N wc wt) := (BEL3.out).trans (hon.1.mono (by omega))
            clear hon hat ct HT
            have cz := St1.out.1.cell 10 _ rfl
            have fz := St1.out.1.free 10
            have Sz2 : Hid (St (wt.setCell ⟨N + 1, 10, none⟩ (.int .u8 90)) N s (gp + 1) (tx 2 [b0, b1, b2, b3, b4, b5, b6, b7] 0 90)) := St1.out.put 10 (.int .u8 90)
            have BELz2 : Hid (Below N wc (wt.setCell ⟨N + 1, 10, none⟩ (.int .u8 90))) := BELt1.out.setCell (by show N ≤ N + 1; omega) _
            generalize hwz : wt.setCell ⟨N + 1, 10, none⟩ (.int .u8 90) = wz2 at *
            have cz2 := Sz2.out.1.cell 10 _ rfl
            have hRe : Hid (R = (decide (gp + 1 = s.size), 2, [b0, b1, b2, b3, b4, b5, b6, b7], 0, 90)) := by
              show _ = _
              rw [hR]
              first | rw [if_pos rfl] | rw [if_pos trivial]
              rw [hlen]; rfl
            clear hR
            go_wp2_with fail
            try rw [hwz]
            have HEn := Lib.hid (fun W (h : W = wz2.drew) => ended_any s (N + 3) (N + 2) (gp + 1) W hs (by subst h; exact Sz2.out.2.1) (by subst h; exact Sz2.out.2.2.1))
            have x0 := Sz2.out.1.cell 0 _ rfl
            have y0 := Sz2.out.2.2.2.2.2.cell 0 _ rfl
            have q0 := Sz2.out.2.2.2.2.2.free 0
            have x1 := Sz2.out.1.cell 1 _ rfl
            have y1 := Sz2.out.2.2.2.2.2.cell 1 _ rfl
            have q1 := Sz2.out.2.2.2.2.2.free 1
            have x2 := Sz2.out.1.cell 2 _ rfl
            have y2 := Sz2.out.2.2.2.2.2.cell 2 _ rfl
            have q2 := Sz2.out.2.2.2.2.2.free 2
            have x3 := Sz2.out.1.cell 3 _ rfl
            have y3 := Sz2.out.2.2.2.2.2.cell 3 _ rfl
            have q3 := Sz2.out.2.2.2.2.2.free 3
            have x4 := Sz2.out.1.cell 4 _ rfl
            have y4 := Sz2.out.2.2.2.2.2.cell 4 _ rfl
            have q4 := Sz2.out.2.2.2.2.2.free 4
            have x5 := Sz2.out.1.cell 5 _ rfl
            have y5 := Sz2.out.2.2.2.2.2.cell 5 _ rfl
            have q5 := Sz2.out.2.2.2.2.2.free 5
            have x6 := Sz2.out.1.cell 6 _ rfl
            have y6 := Sz2.out.2.2.2.2.2.cell 6 _ rfl
            have q6 := Sz2.out.2.2.2.2.2.free 6
            have x7 := Sz2.out.1.cell 7 _ rfl
            have y7 := Sz2.out.2.2.2.2.2.cell 7 _ rfl
            have q7 := Sz2.out.2.2.2.2.2.free 7
            have x8 := Sz2.out.1.cell 8 _ rfl
            have y8 := Sz2.out.2.2.2.2.2.cell 8 _ rfl
            have q8 := Sz2.out.2.2.2.2.2.free 8
            have x9 := Sz2.out.1.cell 9 _ rfl
            have y9 := Sz2.out.2.2.2.2.2.cell 9 _ rfl
            have q9 := Sz2.out.2.2.2.2.2.free 9
            have x10 := Sz2.out.1.cell 10 _ rfl
            have y10 := Sz2.out.2.2.2.2.2.cell 10 _ rfl
            have q10 := Sz2.out.2.2.2.2.2.free 10
            go_region_law ((go_simp; go_at_call 55; refine (HEn.out _ rfl).mono ?_; rintro e w3 ⟨rfl, rfl⟩))
            all_goals
              rw [set11 (X := tx 0 z8 0 0) Sz2.out.2.2.2.2.2 rfl]
              go_wp2
              refine bodyPost_ret (v := .tuple #[.agg (tx 2 [b0, b1, b2, b3, b4, b5, b6, b7] 0 90).toArray, .bool (decide ((gp + 1) = s.size))]) (fin_tx _ _ N (tx 2 [b0, b1, b2, b3, b4, b5, b6, b7] 0 90) _ rfl rfl (row_tx (Y := tx 2 [b0, b1, b2, b3, b4, b5, b6, b7] 0 90) Sz2.out.2.2.2.2.2) rfl) rfl (HF.out _ _ (by rw [hRe.out]) (below_row (hb0h.out.trans BELz2.out).drew (Nat.le_refl _) _))
          · have HT0 := take_yes ⟨#[90, 43, 45]⟩ s (N + 3) (N + 2) gp w3 hs hZ S3.out.2.1 S3.out.2.2.1 (by omega)
            rw [hc] at HT0
            have HT := Lib.hid HT0
            clear HT0
            have ct := S3.out.2.2.2.1.cell 0 _ rfl
            rw [rdZ, if_pos (by rw [hlen]; exact hZ), hc] at hR
            have hPs : gp + 1 ≤ s.size := by omega
            clear hZ hc
            go_wp2_with fail
            refine HT.out.mono ?_
            rintro e wt ⟨rfl, hon, hat⟩
            have St1 : Hid (St wt N s (gp + 1) (tx 2 [b0, b1, b2, b3, b4, b5, b6, b7] 0 0)) := S3.out.only hon hat
            have BELt1 : Hid (Below N wc wt) := (BEL3.out).trans (hon.1.mono (by omega))
            clear hon hat ct HT
            have cz := St1.out.1.cell 10 _ rfl
            have fz := St1.out.1.free 10
            have Sz2 : Hid (St (wt.setCell ⟨N + 1, 10, none⟩ (.int .u8 43)) N s (gp + 1) (tx 2 [b0, b1, b2, b3, b4, b5, b6, b7] 0 43)) := St1.out.put 10 (.int .u8 43)
            have BELz2 : Hid (Below N wc (wt.setCell ⟨N + 1, 10, none⟩ (.int .u8 43))) := BELt1.out.setCell (by show N ≤ N + 1; omega) _
            generalize hwz : wt.setCell ⟨N + 1, 10, none⟩ (.int .u8 43) = wz2 at *
            have cz2 := Sz2.out.1.cell 10 _ rfl
            rw [if_neg (by decide)] at hR
            clear St1 BELt1
            have HG : Hid (Calls Tryd.prog 42 #[.int .i64 6, .int .i64 7, .string ⟨#[58]⟩, .pointer (some ⟨N + 4, 0, none⟩), .pointer (some ⟨N + 5, 0, none⟩), .pointer (some ⟨N + 1, 0, none⟩)] wz2 (GrpP N s 2 0 43 (grpF s.data.toList 58 6 2 6 (gp + 1) [b0, b1, b2, b3, b4, b5, b6, b7]) wz2)) := group_any s 58 N 6 2 (gp + 1) 2 0 43 [b0, b1, b2, b3, b4, b5, b6, b7] wz2 hs (by omega) (by omega) rfl (by omega) (by decide) Sz2.out
            generalize grpF s.data.toList 58 6 2 6 (gp + 1) [b0, b1, b2, b3, b4, b5, b6, b7] = g at *
            obtain ⟨gok, gp, gf⟩ := g
            go_wp2_with fail
            refine HG.out.mono ?_
            rintro e wg ⟨rfl, Sg0, Og0, hgp, hgf⟩
            have Sg := Lib.hid Sg0
            have hgfh := Lib.hid hgf
            have BELg : Hid (Below N wc wg) := (BELz2.out).trans Og0.1
            clear Sg0 Og0 hgf HG
            have hgp' : gp ≤ s.size := hgp
            cases gok with
            | false =>
              have hRe : Hid (R = bad5) := hR
              have hBz := Sg.out.2.2.2.2.2
              go_wp2_with (refine wpList_store_row rfl 43 (.tmp 2) (.tmp 76) rfl N _ rfl rfl 43 _ hBz (by kernel_rfl) (by kernel_rfl) (by kernel_rfl) ?_)
              refine bodyPost_ret (v := .tuple #[.agg (tx 0 z8 0 0).toArray, .bool false]) (fin_tx _ _ N (tx 0 z8 0 0) _ rfl rfl (row_tx (Y := tx 0 z8 0 0) hBz) rfl) rfl (HF.out _ _ (by rw [hRe.out]; rfl) (below_row (hb0h.out.trans BELg.out) (Nat.le_refl _) _))
            | true =>
              obtain ⟨c0, c1, c2, c3, c4, c5, c6, c7, rfl⟩ := list8 gf hgfh.out
              have hRe : Hid (R = (decide (gp = s.size), 2, [c0, c1, c2, c3, c4, c5, c6, c7], 0, 43)) := by
                show _ = _
                rw [hR, if_pos rfl, hlen]; rfl
              clear hR
              go_wp2_with fail
              have HEn := Lib.hid (fun W (h : W = wg.drew) => ended_any s (N + 3) (N + 2) gp W hs (by subst h; exact Sg.out.2.1) (by subst h; exact Sg.out.2.2.1))
              have x0 := Sg.out.1.cell 0 _ rfl
              have y0 := Sg.out.2.2.2.2.2.cell 0 _ rfl
              have q0 := Sg.out.2.2.2.2.2.free 0
              have x1 := Sg.out.1.cell 1 _ rfl
              have y1 := Sg.out.2.2.2.2.2.cell 1 _ rfl
              have q1 := Sg.out.2.2.2.2.2.free 1
              have x2 := Sg.out.1.cell 2 _ rfl
              have y2 := Sg.out.2.2.2.2.2.cell 2 _ rfl
              have q2 := Sg.out.2.2.2.2.2.free 2
              have x3 := Sg.out.1.cell 3 _ rfl
              have y3 := Sg.out.2.2.2.2.2.cell 3 _ rfl
              have q3 := Sg.out.2.2.2.2.2.free 3
              have x4 := Sg.out.1.cell 4 _ rfl
              have y4 := Sg.out.2.2.2.2.2.cell 4 _ rfl
              have q4 := Sg.out.2.2.2.2.2.free 4
              have x5 := Sg.out.1.cell 5 _ rfl
              have y5 := Sg.out.2.2.2.2.2.cell 5 _ rfl
              have q5 := Sg.out.2.2.2.2.2.free 5
              have x6 := Sg.out.1.cell 6 _ rfl
              have y6 := Sg.out.2.2.2.2.2.cell 6 _ rfl
              have q6 := Sg.out.2.2.2.2.2.free 6
              have x7 := Sg.out.1.cell 7 _ rfl
              have y7 := Sg.out.2.2.2.2.2.cell 7 _ rfl
              have q7 := Sg.out.2.2.2.2.2.free 7
              have x8 := Sg.out.1.cell 8 _ rfl
              have y8 := Sg.out.2.2.2.2.2.cell 8 _ rfl
              have q8 := Sg.out.2.2.2.2.2.free 8
              have x9 := Sg.out.1.cell 9 _ rfl
              have y9 := Sg.out.2.2.2.2.2.cell 9 _ rfl
              have q9 := Sg.out.2.2.2.2.2.free 9
              have x10 := Sg.out.1.cell 10 _ rfl
              have y10 := Sg.out.2.2.2.2.2.cell 10 _ rfl
              have q10 := Sg.out.2.2.2.2.2.free 10
              go_region_law ((go_simp; go_at_call 55; refine (HEn.out _ rfl).mono ?_; rintro e w3 ⟨rfl, rfl⟩))
              all_goals
                rw [set11 (X := tx 0 z8 0 0) Sg.out.2.2.2.2.2 rfl]
                go_wp2
                refine bodyPost_ret (v := .tuple #[.agg (tx 2 [c0, c1, c2, c3, c4, c5, c6, c7] 0 43).toArray, .bool (decide (gp = s.size))]) (fin_tx _ _ N (tx 2 [c0, c1, c2, c3, c4, c5, c6, c7] 0 43) _ rfl rfl (row_tx (Y := tx 2 [c0, c1, c2, c3, c4, c5, c6, c7] 0 43) Sg.out.2.2.2.2.2) rfl) rfl (HF.out _ _ (by rw [hRe.out]) (below_row (hb0h.out.trans BELg.out).drew (Nat.le_refl _) _))
          · have HT0 := take_yes ⟨#[90, 43, 45]⟩ s (N + 3) (N + 2) gp w3 hs hZ S3.out.2.1 S3.out.2.2.1 (by omega)
            rw [hc] at HT0
            have HT := Lib.hid HT0
            clear HT0
            have ct := S3.out.2.2.2.1.cell 0 _ rfl
            rw [rdZ, if_pos (by rw [hlen]; exact hZ), hc] at hR
            have hPs : gp + 1 ≤ s.size := by omega
            clear hZ hc
            go_wp2_with fail
            refine HT.out.mono ?_
            rintro e wt ⟨rfl, hon, hat⟩
            have St1 : Hid (St wt N s (gp + 1) (tx 2 [b0, b1, b2, b3, b4, b5, b6, b7] 0 0)) := S3.out.only hon hat
            have BELt1 : Hid (Below N wc wt) := (BEL3.out).trans (hon.1.mono (by omega))
            clear hon hat ct HT
            have cz := St1.out.1.cell 10 _ rfl
            have fz := St1.out.1.free 10
            have Sz2 : Hid (St (wt.setCell ⟨N + 1, 10, none⟩ (.int .u8 45)) N s (gp + 1) (tx 2 [b0, b1, b2, b3, b4, b5, b6, b7] 0 45)) := St1.out.put 10 (.int .u8 45)
            have BELz2 : Hid (Below N wc (wt.setCell ⟨N + 1, 10, none⟩ (.int .u8 45))) := BELt1.out.setCell (by show N ≤ N + 1; omega) _
            generalize hwz : wt.setCell ⟨N + 1, 10, none⟩ (.int .u8 45) = wz2 at *
            have cz2 := Sz2.out.1.cell 10 _ rfl
            rw [if_neg (by decide)] at hR
            clear St1 BELt1
            have HG : Hid (Calls Tryd.prog 42 #[.int .i64 6, .int .i64 7, .string ⟨#[58]⟩, .pointer (some ⟨N + 4, 0, none⟩), .pointer (some ⟨N + 5, 0, none⟩), .pointer (some ⟨N + 1, 0, none⟩)] wz2 (GrpP N s 2 0 45 (grpF s.data.toList 58 6 2 6 (gp + 1) [b0, b1, b2, b3, b4, b5, b6, b7]) wz2)) := group_any s 58 N 6 2 (gp + 1) 2 0 45 [b0, b1, b2, b3, b4, b5, b6, b7] wz2 hs (by omega) (by omega) rfl (by omega) (by decide) Sz2.out
            generalize grpF s.data.toList 58 6 2 6 (gp + 1) [b0, b1, b2, b3, b4, b5, b6, b7] = g at *
            obtain ⟨gok, gp, gf⟩ := g
            go_wp2_with fail
            refine HG.out.mono ?_
            rintro e wg ⟨rfl, Sg0, Og0, hgp, hgf⟩
            have Sg := Lib.hid Sg0
            have hgfh := Lib.hid hgf
            have BELg : Hid (Below N wc wg) := (BELz2.out).trans Og0.1
            clear Sg0 Og0 hgf HG
            have hgp' : gp ≤ s.size := hgp
            cases gok with
            | false =>
              have hRe : Hid (R = bad5) := hR
              have hBz := Sg.out.2.2.2.2.2
              go_wp2_with (refine wpList_store_row rfl 43 (.tmp 2) (.tmp 76) rfl N _ rfl rfl 43 _ hBz (by kernel_rfl) (by kernel_rfl) (by kernel_rfl) ?_)
              refine bodyPost_ret (v := .tuple #[.agg (tx 0 z8 0 0).toArray, .bool false]) (fin_tx _ _ N (tx 0 z8 0 0) _ rfl rfl (row_tx (Y := tx 0 z8 0 0) hBz) rfl) rfl (HF.out _ _ (by rw [hRe.out]; rfl) (below_row (hb0h.out.trans BELg.out) (Nat.le_refl _) _))
            | true =>
              obtain ⟨c0, c1, c2, c3, c4, c5, c6, c7, rfl⟩ := list8 gf hgfh.out
              have hRe : Hid (R = (decide (gp = s.size), 2, [c0, c1, c2, c3, c4, c5, c6, c7], 0, 45)) := by
                show _ = _
                rw [hR, if_pos rfl, hlen]; rfl
              clear hR
              go_wp2_with fail
              have HEn := Lib.hid (fun W (h : W = wg.drew) => ended_any s (N + 3) (N + 2) gp W hs (by subst h; exact Sg.out.2.1) (by subst h; exact Sg.out.2.2.1))
              have x0 := Sg.out.1.cell 0 _ rfl
              have y0 := Sg.out.2.2.2.2.2.cell 0 _ rfl
              have q0 := Sg.out.2.2.2.2.2.free 0
              have x1 := Sg.out.1.cell 1 _ rfl
              have y1 := Sg.out.2.2.2.2.2.cell 1 _ rfl
              have q1 := Sg.out.2.2.2.2.2.free 1
              have x2 := Sg.out.1.cell 2 _ rfl
              have y2 := Sg.out.2.2.2.2.2.cell 2 _ rfl
              have q2 := Sg.out.2.2.2.2.2.free 2
              have x3 := Sg.out.1.cell 3 _ rfl
              have y3 := Sg.out.2.2.2.2.2.cell 3 _ rfl
              have q3 := Sg.out.2.2.2.2.2.free 3
              have x4 := Sg.out.1.cell 4 _ rfl
              have y4 := Sg.out.2.2.2.2.2.cell 4 _ rfl
              have q4 := Sg.out.2.2.2.2.2.free 4
              have x5 := Sg.out.1.cell 5 _ rfl
              have y5 := Sg.out.2.2.2.2.2.cell 5 _ rfl
              have q5 := Sg.out.2.2.2.2.2.free 5
              have x6 := Sg.out.1.cell 6 _ rfl
              have y6 := Sg.out.2.2.2.2.2.cell 6 _ rfl
              have q6 := Sg.out.2.2.2.2.2.free 6
              have x7 := Sg.out.1.cell 7 _ rfl
              have y7 := Sg.out.2.2.2.2.2.cell 7 _ rfl
              have q7 := Sg.out.2.2.2.2.2.free 7
              have x8 := Sg.out.1.cell 8 _ rfl
              have y8 := Sg.out.2.2.2.2.2.cell 8 _ rfl
              have q8 := Sg.out.2.2.2.2.2.free 8
              have x9 := Sg.out.1.cell 9 _ rfl
              have y9 := Sg.out.2.2.2.2.2.cell 9 _ rfl
              have q9 := Sg.out.2.2.2.2.2.free 9
              have x10 := Sg.out.1.cell 10 _ rfl
              have y10 := Sg.out.2.2.2.2.2.cell 10 _ rfl
              have q10 := Sg.out.2.2.2.2.2.free 10
              go_region_law ((go_simp; go_at_call 55; refine (HEn.out _ rfl).mono ?_; rintro e w3 ⟨rfl, rfl⟩))
              all_goals
                rw [set11 (X := tx 0 z8 0 0) Sg.out.2.2.2.2.2 rfl]
                go_wp2
                refine bodyPost_ret (v := .tuple #[.agg (tx 2 [c0, c1, c2, c3, c4, c5, c6, c7] 0 45).toArray, .bool (decide (gp = s.size))]) (fin_tx _ _ N (tx 2 [c0, c1, c2, c3, c4, c5, c6, c7] 0 45) _ rfl rfl (row_tx (Y := tx 2 [c0, c1, c2, c3, c4, c5, c6, c7] 0 45) Sg.out.2.2.2.2.2) rfl) rfl (HF.out _ _ (by rw [hRe.out]) (below_row (hb0h.out.trans BELg.out).drew (Nat.le_refl _) _))
        · have HT := Lib.hid (take_no ⟨#[90, 43, 45]⟩ s (N + 3) (N + 2) gp w3 hs (by omega) hZ S3.out.2.1 S3.out.2.2.1)
          have hRe : Hid (R = (decide (gp = s.size), 2, [b0, b1, b2, b3, b4, b5, b6, b7], 0, 0)) := by
            show _ = _
            rw [hR, rdZ, if_neg (by rw [hlen]; exact hZ), hlen]
          have ct := S3.out.2.2.2.1.cell 0 _ rfl
          have cz := S3.out.1.cell 10 _ rfl
          have fz := S3.out.1.free 10
          have Sz2 : Hid (St (w3.setCell ⟨N + 1, 10, none⟩ (.int .u8 0)) N s gp (tx 2 [b0, b1, b2, b3, b4, b5, b6, b7] 0 0)) := S3.out.put 10 (.int .u8 0)
          have BELz2 : Hid (Below N wc (w3.setCell ⟨N + 1, 10, none⟩ (.int .u8 0))) := (BEL3.out).setCell (by show N ≤ N + 1; omega) _
          clear hZ hR
          generalize hwz : w3.setCell ⟨N + 1, 10, none⟩ (.int .u8 0) = wz2 at *
          have cz2 := Sz2.out.1.cell 10 _ rfl
          go_wp2_with fail
          refine HT.out.mono ?_
          rintro e w3 ⟨rfl, rfl⟩
          try rw [hwz]
          go_wp2_with fail
          try rw [hwz]
          have HEn := Lib.hid (fun W (h : W = wz2.drew) => ended_any s (N + 3) (N + 2) gp W hs (by subst h; exact Sz2.out.2.1) (by subst h; exact Sz2.out.2.2.1))
          have x0 := Sz2.out.1.cell 0 _ rfl
          have y0 := Sz2.out.2.2.2.2.2.cell 0 _ rfl
          have q0 := Sz2.out.2.2.2.2.2.free 0
          have x1 := Sz2.out.1.cell 1 _ rfl
          have y1 := Sz2.out.2.2.2.2.2.cell 1 _ rfl
          have q1 := Sz2.out.2.2.2.2.2.free 1
          have x2 := Sz2.out.1.cell 2 _ rfl
          have y2 := Sz2.out.2.2.2.2.2.cell 2 _ rfl
          have q2 := Sz2.out.2.2.2.2.2.free 2
          have x3 := Sz2.out.1.cell 3 _ rfl
          have y3 := Sz2.out.2.2.2.2.2.cell 3 _ rfl
          have q3 := Sz2.out.2.2.2.2.2.free 3
          have x4 := Sz2.out.1.cell 4 _ rfl
          have y4 := Sz2.out.2.2.2.2.2.cell 4 _ rfl
          have q4 := Sz2.out.2.2.2.2.2.free 4
          have x5 := Sz2.out.1.cell 5 _ rfl
          have y5 := Sz2.out.2.2.2.2.2.cell 5 _ rfl
          have q5 := Sz2.out.2.2.2.2.2.free 5
          have x6 := Sz2.out.1.cell 6 _ rfl
          have y6 := Sz2.out.2.2.2.2.2.cell 6 _ rfl
          have q6 := Sz2.out.2.2.2.2.2.free 6
          have x7 := Sz2.out.1.cell 7 _ rfl
          have y7 := Sz2.out.2.2.2.2.2.cell 7 _ rfl
          have q7 := Sz2.out.2.2.2.2.2.free 7
          have x8 := Sz2.out.1.cell 8 _ rfl
          have y8 := Sz2.out.2.2.2.2.2.cell 8 _ rfl
          have q8 := Sz2.out.2.2.2.2.2.free 8
          have x9 := Sz2.out.1.cell 9 _ rfl
          have y9 := Sz2.out.2.2.2.2.2.cell 9 _ rfl
          have q9 := Sz2.out.2.2.2.2.2.free 9
          have x10 := Sz2.out.1.cell 10 _ rfl
          have y10 := Sz2.out.2.2.2.2.2.cell 10 _ rfl
          have q10 := Sz2.out.2.2.2.2.2.free 10
          go_region_law ((go_simp; go_at_call 55; refine (HEn.out _ rfl).mono ?_; rintro e w3 ⟨rfl, rfl⟩))
          all_goals
            rw [set11 (X := tx 0 z8 0 0) Sz2.out.2.2.2.2.2 rfl]
            go_wp2
            refine bodyPost_ret (v := .tuple #[.agg (tx 2 [b0, b1, b2, b3, b4, b5, b6, b7] 0 0).toArray, .bool (decide (gp = s.size))]) (fin_tx _ _ N (tx 2 [b0, b1, b2, b3, b4, b5, b6, b7] 0 0) _ rfl rfl (row_tx (Y := tx 2 [b0, b1, b2, b3, b4, b5, b6, b7] 0 0) Sz2.out.2.2.2.2.2) rfl) rfl (HF.out _ _ (by rw [hRe.out]) (below_row (hb0h.out.trans BELz2.out).drew (Nat.le_refl _) _))
theorem read_any (s : ByteArray) (w : World) (hs : s.size ≤ 1000000) : Calls Tryd.prog 29 #[.string s] w (ReadP (rd s.data.toList) w) := by
  by_cases h : 3 ≤ s.data.toList.length ∧ s.data.toList.getD 2 0 = 58
  · exact read_T s w hs h _ (if_pos h)
  · exact read_D s w hs h _ (if_neg h)
end Go.Proofs.YtckeefjmamggmaaDoor
