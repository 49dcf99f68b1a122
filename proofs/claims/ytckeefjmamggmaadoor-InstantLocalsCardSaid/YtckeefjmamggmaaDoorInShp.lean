/-
  Helper: the walks of Shape and Instant.
-/
import Derived.Test.YtckeefjmamggmaaDoorInLoc
namespace Go.Proofs.YtckeefjmamggmaaDoor
open Go.RowKit
set_option linter.unusedVariables false

open Classical in
noncomputable def shpF (x : Lc) (s : ByteArray) : Nat := if x.2.2.2 = 0 ∧ mkB (canL x.1 x.2.1 x.2.2.1) = s then x.1 else 0
open Classical in
set_option maxRecDepth 100000 in
set_option maxHeartbeats 8000000 in
theorem Shape_any (s : ByteArray) (w : World) (hT : Tabs w) (hs : s.size ≤ 1000000) : Calls Tryd.prog 12 #[.string s] w fun e w' => e = .returned (.int .i64 (shpF (locF (rd s.data.toList)) s : Nat)) ∧ Below w.heap.size w w' := by
  obtain ⟨⟨hf, hf2⟩, hna, hsh⟩ := locF_good _ (rd_good s.data.toList)
  have HR := Lib.hid (readLocal_any s w hT hs)
  generalize locF (rd s.data.toList) = x at *
  obtain ⟨sh, f, na, en⟩ := x
  replace hf : f.length = 8 := hf
  replace hf2 : ∀ k, f.getD k 0 ≤ 1000000000 := hf2
  replace hna : na ≤ 999999999 := hna
  have HC := fun W h => canonical_any sh f na 0 hf hf2 hna W h
  have HM : shpF (sh, f, na, en) s = if en = 0 ∧ mkB (canL sh f na) = s then sh else 0 := by
    unfold shpF; rfl
  have HF : Hid (∀ (k : Nat) w', k = shpF (sh, f, na, en) s → Below w.heap.size w w' → (fun (e : Ending) (w' : World) => e = .returned (.int .i64 (shpF (sh, f, na, en) s : Nat)) ∧ Below w.heap.size w w') (.returned (.int .i64 k)) w') := fun k w' h1 h2 => ⟨by rw [h1], h2⟩
  rw [HM] at HF
  generalize hPo : (fun (e : Ending) (w' : World) => e = .returned (.int .i64 (shpF (sh, f, na, en) s : Nat)) ∧ Below w.heap.size w w') = Po at *
  rw [HM] at hPo
  rw [hPo] at HF
  clear hPo HM
  obtain ⟨a0, a1, a2, a3, a4, a5, a6, a7, rfl⟩ : ∃ a0 a1 a2 a3 a4 a5 a6 a7, f = [a0, a1, a2, a3, a4, a5, a6, a7] := by
    match f, hf with
    | [a0, a1, a2, a3, a4, a5, a6, a7], _ => exact ⟨a0, a1, a2, a3, a4, a5, a6, a7, rfl⟩
  replace HR : Hid (Calls Tryd.prog 21 #[.string s] w fun e w' => e = .returned (.tuple #[.agg #[.int .i64 sh, .int .i64 a0, .int .i64 a1, .int .i64 a2, .int .i64 a3, .int .i64 a4, .int .i64 a5, .int .i64 a6, .int .i64 a7, .int .i64 na, .int .u8 0], .int .i64 en]) ∧ Below w.heap.size w w') := HR
  replace HC : Hid (∀ W, Tabs W → Calls Tryd.prog 22 #[.agg #[.int .i64 sh, .int .i64 a0, .int .i64 a1, .int .i64 a2, .int .i64 a3, .int .i64 a4, .int .i64 a5, .int .i64 a6, .int .i64 a7, .int .i64 na, .int .u8 0]] W (StrP (canL sh [a0, a1, a2, a3, a4, a5, a6, a7] na) W)) := HC
  unfold StrP at HC
  generalize mkB (canL sh [a0, a1, a2, a3, a4, a5, a6, a7] na) = tx9 at *
  have HT : Hid (∀ W, Below w.heap.size w W → Tabs W) := fun W hb => hT.below hb hT.1
  clear hT hs hf hf2 hna hsh
  by_cases he : en = 0
  · subst he
    go_enter Tryd.func12, Tryd.ntmps12
    go_wp2_with fail
    refine HR.out.mono ?_
    rintro e w1 ⟨rfl, hb1⟩
    have hb1h := Lib.hid hb1
    clear hb1
    go_wp2_with fail
    obtain ⟨wa, n0, hwa, hn0, hz0, HBL, HCell⟩ := box11 w1 sh a0 a1 a2 a3 a4 a5 a6 a7 na 0
    have hwa2 : w1.alloc (.cells #[.int .i64 sh, .int .i64 a0, .int .i64 a1, .int .i64 a2, .int .i64 a3, .int .i64 a4, .int .i64 a5, .int .i64 a6, .int .i64 a7, .int .i64 na, .int .u8 0] 43) = wa := hwa
    rw [hwa2, hn0]
    have hba := Lib.hid (HBL _ _ (by rw [← hn0]; exact hb1h.out.size) hb1h.out)
    have HCellh := Lib.hid HCell
    have hzh := Lib.hid hz0
    clear HBL HCell hwa hwa2 hn0 hz0 hb1h
    refine (HC.out _ (HT.out _ hba.out)).mono ?_
    rintro e w2 ⟨rfl, hb2⟩
    have hbw := bt hba hb2
    rw [hzh.out] at hb2
    have hb2h := Lib.hid hb2
    clear hb2
    obtain ⟨x0, x1, x2, x3, x4, x5, x6, x7, x8, x9, x10⟩ := HCellh.out w2 hb2h.out
    by_cases hts : tx9 = s
    · have hfin := Lib.hid (HF.out sh w2 (by rw [if_pos ⟨by first | rfl | trivial, hts⟩]) hbw.out)
      subst hts
      clear HF
      go_wp2
      first | exact hfin.out | (go_ret; exact hfin.out)
    · have hfin := Lib.hid (HF.out 0 w2 (by rw [if_neg (fun h => hts h.2)]) hbw.out)
      have hts2 := str_ne hts
      clear HF
      go_wp2
      first | exact hfin.out | (go_ret; exact hfin.out)
  · have hfin := Lib.hid (fun w' h => HF.out 0 w' (by rw [if_neg (fun h => he h.1)]) h)
    clear HF
    go_enter Tryd.func12, Tryd.ntmps12
    go_wp2_with fail
    refine HR.out.mono ?_
    rintro e w1 ⟨rfl, hb1⟩
    have hfin2 := Lib.hid (hfin.out _ hb1)
    have hfin3 := Lib.hid (hfin.out _ (hb1.alloc hb1.size (.cells #[.int .i64 sh, .int .i64 a0, .int .i64 a1, .int .i64 a2, .int .i64 a3, .int .i64 a4, .int .i64 a5, .int .i64 a6, .int .i64 a7, .int .i64 na, .int .u8 0] 43)))
    clear hb1 hfin
    go_wp2
    first | exact hfin2.out | exact hfin3.out | (go_ret; first | exact hfin2.out | exact hfin3.out)
def InsR (m : Int × Nat × Int) (t : ByteArray) (en : Int) : Prop := if m.2.2 = 0 then OfR m.1 m.2.1 t en else t = ⟨#[]⟩ ∧ en = m.2.2
theorem InsR.det {m : Int × Nat × Int} {t t' : ByteArray} {en en' : Int} (h : InsR m t en) (h' : InsR m t' en') : t = t' ∧ en = en' := by
  unfold InsR at h h'
  split at h <;> rename_i c
  · rw [if_pos c] at h'; exact h.det h'
  · rw [if_neg c] at h'; exact ⟨h.1.trans h'.1.symm, h.2.trans h'.2.symm⟩
def InsP (m : Int × Nat × Int) (w : World) (e : Ending) (w' : World) : Prop := ∃ t en, InsR m t en ∧ e = .returned (.tuple #[.string t, .int .i64 en]) ∧ Below w.heap.size w w'
set_option maxRecDepth 100000 in
set_option maxHeartbeats 4000000 in
theorem Instant_any (s : ByteArray) (w : World) (hT : Tabs w) (hs : s.size ≤ 1000000) : Calls Tryd.prog 7 #[.string s] w (InsP (momF (rd s.data.toList)) w) := by
  have HM := Lib.hid (moment_any s w hT hs)
  generalize momF (rd s.data.toList) = m at *
  obtain ⟨a, b, c⟩ := m
  replace HM : Hid (Calls Tryd.prog 17 #[.string s] w fun e w' => e = .returned (.tuple #[.int .i64 a, .int .i64 b, .int .i64 c]) ∧ Below w.heap.size w w') := HM
  have HO := Lib.hid (fun W hW => of_all a b W hW)
  have HF : Hid (∀ t en w', InsR (a, b, c) t en → Below w.heap.size w w' → InsP (a, b, c) w (.returned (.tuple #[.string t, .int .i64 en])) w') := fun t en w' h1 h2 => ⟨t, en, h1, rfl, h2⟩
  have HG : Hid (∀ t en, InsR (a, b, c) t en = if c = 0 then OfR a b t en else t = ⟨#[]⟩ ∧ en = c) := fun t en => rfl
  generalize hPo : InsP (a, b, c) w = Po at *
  clear hPo
  have HT : Hid (∀ W, Below w.heap.size w W → Tabs W) := fun W hb => hT.below hb hT.1
  clear hT hs
  by_cases hc : c = 0
  · subst hc
    go_enter Tryd.func7, Tryd.ntmps7
    go_wp2_with fail
    refine HM.out.mono ?_
    rintro e w1 ⟨rfl, hb1⟩
    have hb1h := Lib.hid hb1
    clear hb1
    go_wp2_with fail
    refine (HO.out _ (HT.out _ hb1h.out)).mono ?_
    rintro e w2 ⟨t, en, hof, rfl, hb2⟩
    have hfin := Lib.hid (HF.out t en w2 (by first | (rw [HG.out, if_pos rfl]; exact hof) | (rw [HG.out, if_pos trivial]; exact hof)) (bt hb1h hb2).out)
    clear hb2 hof HF HG
    go_wp2
    first | exact hfin.out | (go_ret2; exact hfin.out)
  · have hfin := Lib.hid (fun w' => HF.out ⟨#[]⟩ c w' (by rw [HG.out, if_neg hc]; exact ⟨rfl, rfl⟩))
    clear HF HG
    go_enter Tryd.func7, Tryd.ntmps7
    go_wp2_with fail
    refine HM.out.mono ?_
    rintro e w1 ⟨rfl, hb1⟩
    have hfin2 := Lib.hid (hfin.out _ hb1)
    clear hb1 hfin
    go_wp2
    first | exact hfin2.out | (go_ret2; exact hfin2.out)
end Go.Proofs.YtckeefjmamggmaaDoor
