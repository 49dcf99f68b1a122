/-
  Helper: the walk of the statement InstantLocals.
-/
import Derived.Test.YtckeefjmamggmaaDoorInRL
namespace Go.Proofs.YtckeefjmamggmaaDoor
open Go.RowKit
set_option linter.unusedVariables false
set_option linter.unusedSimpArgs false

theorem loc_shape (sh : Nat) (f : List Nat) (na : Nat) (hsh : sh = 1 ∨ sh = 2 ∨ sh = 3) (h : IR sh f) (hna : na ≤ 999999999) : shpF (locF (rd (canL sh f na))) (mkB (canL sh f na)) = sh := by
  have hb := loc_back sh f na h hna
  have h1 : (locF (rd (canL sh f na))).1 = sh := by
    rcases hsh with rfl | rfl | rfl
    · rw [rd_date f na h.small, locYes 1 (f3 f) 0 (f3_ir f h)]
    · rw [rd_time f na h.small hna, locYes 2 (f2 f) na (f2_ir f h)]
    · have := rd_both f na [] h.small hna (.inl rfl) 3 (by omega) (by omega)
      rw [List.append_nil] at this
      rw [this, show zoneOf [] = 0 from rfl, locYes 3 (f6 f) na (f6_ir 3 f h (by omega))]
  unfold shpF
  have h2 := hb.1
  unfold locT at h2
  rw [if_pos hb.2] at h2
  rw [if_pos ⟨hb.2, h2⟩]
  exact h1
theorem shp_self (sh : Nat) (f : List Nat) (na : Nat) (s : ByteArray) (h : mkB (canL sh f na) = s) : shpF (sh, f, na, 0) s = sh := by
  unfold shpF; rw [if_pos ⟨rfl, h⟩]
theorem shp_other (sh : Nat) (f : List Nat) (na : Nat) (s : ByteArray) (h : ¬ mkB (canL sh f na) = s) : shpF (sh, f, na, 0) s = 0 := by
  unfold shpF; rw [if_neg (fun g => h g.2)]
theorem shp_err (f : List Nat) (e : Int) (he : e ≠ 0) (s : ByteArray) : shpF (0, f, 0, e) s = 0 := by
  unfold shpF; rw [if_neg (fun g => he g.1)]
set_option maxRecDepth 100000 in
set_option maxHeartbeats 8000000 in
theorem walkInstantLocals (w : World) (hT : Tabs w) (s : ByteArray) (hs : s.size ≤ maxLen) : Calls Tryd.prog 4 #[.string s] w (BoolW true w) := by
  have HA := Lib.hid (awake_any w hT)
  unfold BoolW at HA
  have HT : Hid (∀ W, Below w.heap.size w W → Tabs W) := fun W hb => hT.below hb hT.1
  have HF : Hid (∀ w', Below w.heap.size w w' → BoolW true w (.returned (.bool true)) w') := fun w' h => ⟨rfl, h⟩
  generalize BoolW true w = Po at *
  clear hT
  unfold maxLen at hs
  by_cases la : 200 < s.size
  · have la2 : (200 : Int) < (s.size : Int) := by omega
    go_enter Tryd.func4, Tryd.ntmps4
    go_wp2_with fail
    refine HA.out.mono ?_
    rintro e w1 ⟨rfl, hb1⟩
    have hfin := Lib.hid (HF.out _ hb1)
    clear hb1
    go_wp2
    exact hfin.out
  have la3 : ¬ (200 : Int) < (s.size : Int) := by omega
  have H1 := Lib.hid (fun W hW => Local_any s W hW (by omega))
  have H2 := Lib.hid (fun W => rrl_any s (by omega) W)
  have HRd := Lib.hid (fun W => rread_any s (by omega) W)
  have HSs := Lib.hid (fun W hW => Shape_any s W hW (by omega))
  have hzT := zeroT
  have hdet := loc_cls s.data.toList
  -- the answer (t, en), its shape n, and what Read says
  have key : ∃ (t : ByteArray) (en : Int) (n : Nat) (T : RT) (ok : Bool), (locT (locF (rd s.data.toList)) = t ∧ (locF (rd s.data.toList)).2.2.2 = en ∧ readR s.data.toList = (T, ok) ∧ shpF (locF (rd s.data.toList)) s = n) ∧
      ((en ≠ 0 ∧ n = 0) ∨ (en = 0 ∧ (¬ t = s) ∧ n = 0 ∧ ∃ k, 0 < k ∧ shpF (locF (rd t.data.toList)) t = k ∧ t.size ≤ 100000) ∨ (en = 0 ∧ t = s ∧ ((n = 1 ∧ T.dt = true ∧ T.tm = false) ∨ (n = 2 ∧ T.dt = false ∧ T.tm = true) ∨ (n = 3 ∧ T.dt = true ∧ T.tm = true)))) := by
    rcases hdet with ⟨h1, h2⟩ | ⟨sh, f, na, hsh, h1, h2, hna, hy, _, _⟩
    · exact ⟨_, _, _, (readR s.data.toList).1, (readR s.data.toList).2, ⟨rfl, rfl, rfl, rfl⟩, .inl (by rw [h1]; exact ⟨by decide, shp_err z8 3 (by decide) s⟩)⟩
    · by_cases hI : IR sh f
      · have e0 : locF (rd s.data.toList) = (sh, f, na, 0) := by rw [h1]; exact locYes sh f na hI
        have eT : locT (sh, f, na, (0 : Int)) = mkB (canL sh f na) := by unfold locT; rw [if_pos rfl]
        by_cases hts : mkB (canL sh f na) = s
        · refine ⟨_, _, _, _, _, ⟨rfl, rfl, h2, rfl⟩, .inr (.inr ?_)⟩
          rw [e0, eT, shp_self sh f na s hts]
          refine ⟨rfl, hts, ?_⟩
          rcases hsh with rfl | rfl | rfl
          · exact .inl ⟨rfl, rfl, rfl⟩
          · exact .inr (.inl ⟨rfl, rfl, rfl⟩)
          · exact .inr (.inr ⟨rfl, rfl, rfl⟩)
        · refine ⟨_, _, _, _, _, ⟨rfl, rfl, h2, rfl⟩, .inr (.inl ?_)⟩
          rw [e0, eT, shp_other sh f na s hts]
          refine ⟨rfl, hts, rfl, sh, by omega, loc_shape sh f na hsh hI hna, ?_⟩
          have hl : (mkB (canL sh f na)).size = (canL sh f na).length := mkB_size _
          have hG := (rd_good s.data.toList).1.2
          rw [h1] at hG
          have := canL_len sh f na hG hna
          omega
      · have e0 : locF (rd s.data.toList) = (0, z8, 0, 13) := by rw [h1]; exact locErr sh f na hI
        refine ⟨_, _, _, _, _, ⟨rfl, rfl, h2, rfl⟩, .inl ?_⟩
        rw [e0]
        exact ⟨by decide, shp_err z8 13 (by decide) s⟩
  obtain ⟨t, en, n, T, ok, ⟨e1, e2, e3, e4⟩, hK⟩ := key
  rw [e1, e2] at H1 H2
  rw [e3] at HRd
  rw [e4] at HSs
  unfold StrE at H1 H2
  replace HRd : Hid (∀ W, Calls Tryd.prog 11 #[.string s] W fun e w' => e = .returned (.tuple #[.agg T.v.toArray, .bool ok]) ∧ Below W.heap.size W w') := HRd
  clear hs la hdet e1 e2 e3 e4
  have hKh := Lib.hid hK
  clear hK
  go_enter Tryd.func4, Tryd.ntmps4
  go_wp2_with fail
  refine HA.out.mono ?_
  rintro e w1 ⟨rfl, hb1⟩
  have hB1 : Hid (Below w.heap.size w w1) := hb1
  clear hb1
  go_wp2_with fail
  refine (H1.out _ (HT.out _ hB1.out)).mono ?_
  rintro e w2 ⟨rfl, hb2⟩
  have hB2 := bt hB1 hb2
  clear hb2
  go_wp2_with fail
  refine (H2.out _).mono ?_
  rintro e w3 ⟨rfl, q3⟩
  have hB3 := bt hB2 q3
  clear q3 H1 H2
  go_wp2_with fail
  refine (HRd.out _).mono ?_
  rintro e w4 ⟨rfl, q4⟩
  have hB4 := bt hB3 q4
  obtain ⟨M, W2, hM, hW2, c0, c1, hbl⟩ := tbox w4 T
  have C0 := Lib.hid c0
  have C1 := Lib.hid c1
  have hB5 := Lib.hid (hbl _ _ hB4.out (by have := hB4.out.size; omega))
  clear q4 c0 c1 hbl HRd hB4 hB3
  go_upto_region 10 with (refine wpList_store_row rfl 30 (.tmp 7) (.tmp 36) rfl M _ rfl rfl 30 _ C0.out (rt_i T) (rt_z _ T) (rt_one T) ?_)
  generalize W2.setRow M T.v.toArray = wc at *
  clear C0 hM hW2
  have HS1 : Hid (∀ W, Below w.heap.size w W → Calls Tryd.prog 12 #[.string s] W fun e w' => e = .returned (.int .i64 (n : Nat)) ∧ Below W.heap.size W w') := fun W hW => HSs.out W (HT.out W hW)
  clear HSs
  have k0 := C1.out.cell 0 (.bool T.dt) rfl
  have k1 := C1.out.cell 1 (.bool T.tm) rfl
  rcases hKh.out with ⟨g1, g2⟩ | ⟨g1, g2, g3, k, g4, g5, g6⟩ | ⟨g1, g2, g3⟩
  · subst g2
    clear hKh k0 k1 C1
    go_wp2_with fail
    refine (HS1.out _ hB5.out).mono ?_
    rintro e w6 ⟨rfl, q6⟩
    have hfin := Lib.hid (HF.out _ (bt hB5 q6).out)
    clear q6 HS1
    go_wp2
    exact hfin.out
  · subst g1 g3
    have hts2 := str_ne g2
    have HS2 := Lib.hid (fun W hW => Shape_any t W hW (by omega))
    rw [g5] at HS2
    clear hKh k0 k1 C1 g2 g5 g6
    go_wp2_with fail
    refine (HS1.out _ hB5.out).mono ?_
    rintro e w6 ⟨rfl, q6⟩
    have hB6 := bt hB5 q6
    clear q6 HS1 hB5
    go_wp2_with fail
    refine (HS2.out _ (HT.out _ hB6.out)).mono ?_
    rintro e w7 ⟨rfl, q7⟩
    have hfin := Lib.hid (HF.out _ (bt hB6 q7).out)
    clear q7 HS2
    go_wp2
    exact hfin.out
  · subst g1 g2
    rcases g3 with ⟨rfl, d1, d2⟩ | ⟨rfl, d1, d2⟩ | ⟨rfl, d1, d2⟩
    all_goals
      rw [d1] at k0
      rw [d2] at k1
      clear hKh C1 d1 d2
      go_wp2_with fail
      refine (HS1.out _ hB5.out).mono ?_
      rintro e w6 ⟨rfl, q6⟩
      have hB6 := bt hB5 q6
      clear q6 hB5
      go_wp2_with fail
      refine (HS1.out _ hB6.out).mono ?_
      rintro e w7 ⟨rfl, q7⟩
      have hfin := Lib.hid (HF.out _ (bt hB6 q7).out)
      clear q7 HS1
      go_wp2
      exact hfin.out
end Go.Proofs.YtckeefjmamggmaaDoor
