/-
  Helper: the walks of readLocal, Local, Shape and Instant.
-/
import Derived.Test.YtckeefjmamggmaaDoorInCmp
namespace Go.Proofs.YtckeefjmamggmaaDoor
open Go.RowKit
set_option linter.unusedVariables false

/-- what a local text holds: its shape, its fields, its nanoseconds; the error -/
abbrev Lc := Nat × List Nat × Nat × Int
open Classical in
noncomputable def locF (r : Rd) : Lc :=
  if r.1 = true ∧ r.2.2.2.2 = 0 then if IR r.2.1 r.2.2.1 then (r.2.1, r.2.2.1, r.2.2.2.1, 0) else (0, z8, 0, 13) else (0, z8, 0, 3)
def LocP (x : Lc) (w : World) (e : Ending) (w' : World) : Prop := e = .returned (.tuple #[.agg (tx x.1 x.2.1 x.2.2.1 0).toArray, .int .i64 x.2.2.2]) ∧ Below w.heap.size w w'
theorem rbox (w : World) : ∃ w0 N, w.alloc (.cells #[.int .i64 0, .int .i64 0, .int .i64 0, .int .i64 0, .int .i64 0, .int .i64 0, .int .i64 0, .int .i64 0, .int .i64 0, .int .i64 0, .int .u8 0] 43) = w0 ∧ w.heap.size = N ∧ N < w0.heap.size ∧ (∀ W, Below w0.heap.size w0 W → Blk W N 43 (tx 0 z8 0 0) ∧ Below N w W) := by
  refine ⟨_, _, rfl, rfl, by simp, fun W h => ⟨(Blk.new w 43 (tx 0 z8 0 0)).go h (by simp), ?_⟩⟩
  exact ((Below.refl _ w).alloc (Nat.le_refl _) _).trans (h.mono (by simp))
theorem fin_loc (tmps : Array Value) (W : World) (N : Nat) (Y : List Value) (b : Value) (hp : tmps.getD 2 undef = .pointer (some ⟨N, 0, none⟩)) (hb : tmps.getD 3 undef = b) (h : Blk W N 43 Y) (hy : Y.length = 11) :
    (results Tryd.f21 tmps).run Tryd.prog W = .ok (.tuple #[.agg Y.toArray, b]) W := by
  rw [results_row_tmp (p := 2) (t := 3) (ty := 43) rfl tmps W N Y.toArray hp (load_tx h hy), hb]
open Classical in
set_option maxRecDepth 100000 in
set_option maxHeartbeats 8000000 in
theorem readLocal_any (s : ByteArray) (w : World) (hT : Tabs w) (hs : s.size ≤ 1000000) : Calls Tryd.prog 21 #[.string s] w (LocP (locF (rd s.data.toList)) w) := by
  obtain ⟨⟨hf, hf2⟩, hna, hsh, hzo⟩ := rd_good s.data.toList
  have HR := fun W => read_any s W hs
  obtain ⟨w0, N, hw0, hN, hlt, HW⟩ := rbox w
  have HWh := Lib.hid HW
  have hlth := Lib.hid hlt
  generalize rd s.data.toList = r at *
  obtain ⟨ok, sh, f, na, zo⟩ := r
  replace hf : f.length = 8 := hf
  replace hf2 : ∀ k, f.getD k 0 ≤ 1000000000 := hf2
  replace hna : na ≤ 999999999 := hna
  replace hsh : sh ≤ 3 := hsh
  replace hzo : zo < 256 := hzo
  have HM : Hid (locF (ok, sh, f, na, zo) = if ok = true ∧ zo = 0 then if IR sh f then (sh, f, na, 0) else (0, z8, 0, 13) else (0, z8, 0, 3)) := by
    show _ = _
    unfold locF; rfl
  have HI := fun b hb W h => inRange_any sh f na zo b hf hf2 hb hsh W h
  have HF : Hid (∀ x w', locF (ok, sh, f, na, zo) = x → Below w.heap.size w w' → LocP (locF (ok, sh, f, na, zo)) w (.returned (.tuple #[.agg (tx x.1 x.2.1 x.2.2.1 0).toArray, .int .i64 x.2.2.2])) w') := fun x w' h1 h2 => by rw [h1]; exact ⟨rfl, h2⟩
  generalize hPo : LocP (locF (ok, sh, f, na, zo)) w = Po at *
  clear hPo
  obtain ⟨a0, a1, a2, a3, a4, a5, a6, a7, rfl⟩ : ∃ a0 a1 a2 a3 a4 a5 a6 a7, f = [a0, a1, a2, a3, a4, a5, a6, a7] := by
    match f, hf with
    | [a0, a1, a2, a3, a4, a5, a6, a7], _ => exact ⟨a0, a1, a2, a3, a4, a5, a6, a7, rfl⟩
  replace HR : Hid (∀ W, Calls Tryd.prog 29 #[.string s] W fun e w' => e = .returned (.tuple #[.agg #[.int .i64 sh, .int .i64 a0, .int .i64 a1, .int .i64 a2, .int .i64 a3, .int .i64 a4, .int .i64 a5, .int .i64 a6, .int .i64 a7, .int .i64 na, .int .u8 zo], .bool ok]) ∧ Below W.heap.size W w') := HR
  rw [hN] at HF
  have HT : Hid (∀ W, Below w0.heap.size w0 W → Tabs W) := fun W hb => hT.below ((HW W hb).2) (by rw [← hN]; exact hT.1)
  clear hT hs hf hf2 HW hlt
  by_cases h1 : ok = true ∧ zo = 0
  · obtain ⟨rfl, rfl⟩ := h1
    by_cases hI : IR sh [a0, a1, a2, a3, a4, a5, a6, a7]
    · have hfin0 := fun w' h => HF.out _ w' (HM.out.trans (by rw [if_pos ⟨rfl, rfl⟩, if_pos hI])) h
      have hfin : Hid (∀ w', Below N w w' → Po (.returned (.tuple #[.agg #[.int .i64 sh, .int .i64 a0, .int .i64 a1, .int .i64 a2, .int .i64 a3, .int .i64 a4, .int .i64 a5, .int .i64 a6, .int .i64 a7, .int .i64 na, .int .u8 0], .int .i64 0])) w') := hfin0
      have HI2 : Hid (∀ W, Tabs W → Calls Tryd.prog 30 #[.agg #[.int .i64 sh, .int .i64 a0, .int .i64 a1, .int .i64 a2, .int .i64 a3, .int .i64 a4, .int .i64 a5, .int .i64 a6, .int .i64 a7, .int .i64 na, .int .u8 0]] W (BoolP true W)) := HI true (by simp [hI])
      clear HF HM HI hI hzo hsh hfin0
      unfold BoolP at HI2
      go_enter Tryd.func21, Tryd.ntmps21
      go_wp2_with fail
      clear hw0 hN
      refine (HR.out _).mono ?_
      rintro e w1 ⟨rfl, hb1⟩
      have hb1h : Hid (Below w0.heap.size w0 w1) := hb1
      clear hb1
      go_wp2_with fail
      obtain ⟨wa, n0, hwa, hn0, hz0, HBL, HCell⟩ := box11 w1 sh a0 a1 a2 a3 a4 a5 a6 a7 na 0
      have hwa2 : w1.alloc (.cells #[.int .i64 sh, .int .i64 a0, .int .i64 a1, .int .i64 a2, .int .i64 a3, .int .i64 a4, .int .i64 a5, .int .i64 a6, .int .i64 a7, .int .i64 na, .int .u8 0] 43) = wa := hwa
      rw [hwa2, hn0]
      have hba : Hid (Below w0.heap.size w0 wa) := HBL _ _ (by rw [← hn0]; exact hb1h.out.size) hb1h.out
      have HCellh := Lib.hid HCell
      have hzh := Lib.hid hz0
      clear HBL HCell hwa hwa2 hn0 hz0 hb1h
      refine (HI2.out _ (HT.out _ hba.out)).mono ?_
      rintro e w2 ⟨rfl, hb2⟩
      rw [hzh.out] at hb2
      have hb2h := Lib.hid hb2
      have hbw := bt hba (by rw [hzh.out]; exact hb2)
      have hB2 := (HWh.out w2 hbw.out).1
      have hE2 := Lib.hid (HWh.out w2 hbw.out).2
      clear hb2
      obtain ⟨x0, x1, x2, x3, x4, x5, x6, x7, x8, x9, x10⟩ := HCellh.out w2 hb2h.out
      go_wp2_with (refine wpList_store_row rfl 43 (.tmp 2) (.tmp 23) rfl N _ rfl rfl 43 _ hB2 (by kernel_rfl) (by kernel_rfl) (by kernel_rfl) ?_)
      exact bodyPost_ret (v := .tuple #[.agg (tx sh [a0, a1, a2, a3, a4, a5, a6, a7] na 0).toArray, .int .i64 0]) (fin_loc _ _ N (tx sh [a0, a1, a2, a3, a4, a5, a6, a7] na 0) _ rfl rfl (row_tx (Y := tx sh [a0, a1, a2, a3, a4, a5, a6, a7] na 0) hB2) rfl) rfl (hfin.out _ (below_row hE2.out (Nat.le_refl _) _))
    · have hfin0 := fun w' h => HF.out _ w' (HM.out.trans (by rw [if_pos ⟨rfl, rfl⟩, if_neg hI])) h
      have hfin : Hid (∀ w', Below N w w' → Po (.returned (.tuple #[.agg #[.int .i64 0, .int .i64 0, .int .i64 0, .int .i64 0, .int .i64 0, .int .i64 0, .int .i64 0, .int .i64 0, .int .i64 0, .int .i64 0, .int .u8 0], .int .i64 13])) w') := hfin0
      have HI2 : Hid (∀ W, Tabs W → Calls Tryd.prog 30 #[.agg #[.int .i64 sh, .int .i64 a0, .int .i64 a1, .int .i64 a2, .int .i64 a3, .int .i64 a4, .int .i64 a5, .int .i64 a6, .int .i64 a7, .int .i64 na, .int .u8 0]] W (BoolP false W)) := HI false (by simp [hI])
      clear HF HM HI hI hzo hsh hfin0
      unfold BoolP at HI2
      go_enter Tryd.func21, Tryd.ntmps21
      go_wp2_with fail
      clear hw0 hN
      refine (HR.out _).mono ?_
      rintro e w1 ⟨rfl, hb1⟩
      have hb1h : Hid (Below w0.heap.size w0 w1) := hb1
      clear hb1
      go_wp2_with fail
      obtain ⟨wa, n0, hwa, hn0, hz0, HBL, HCell⟩ := box11 w1 sh a0 a1 a2 a3 a4 a5 a6 a7 na 0
      have hwa2 : w1.alloc (.cells #[.int .i64 sh, .int .i64 a0, .int .i64 a1, .int .i64 a2, .int .i64 a3, .int .i64 a4, .int .i64 a5, .int .i64 a6, .int .i64 a7, .int .i64 na, .int .u8 0] 43) = wa := hwa
      rw [hwa2, hn0]
      have hba : Hid (Below w0.heap.size w0 wa) := HBL _ _ (by rw [← hn0]; exact hb1h.out.size) hb1h.out
      clear HBL HCell hwa hwa2 hn0 hz0 hb1h
      refine (HI2.out _ (HT.out _ hba.out)).mono ?_
      rintro e w2 ⟨rfl, hb2⟩
      have hbw := bt hba hb2
      have hB2 := (HWh.out w2 hbw.out).1
      have hE2 := Lib.hid (HWh.out w2 hbw.out).2
      clear hb2
      go_wp2_with (refine wpList_store_row rfl 43 (.tmp 2) (.tmp 22) rfl N _ rfl rfl 43 _ hB2 (by kernel_rfl) (by kernel_rfl) (by kernel_rfl) ?_)
      exact bodyPost_ret (v := .tuple #[.agg (tx 0 z8 0 0).toArray, .int .i64 13]) (fin_loc _ _ N (tx 0 z8 0 0) _ rfl rfl (row_tx (Y := tx 0 z8 0 0) hB2) rfl) rfl (hfin.out _ (below_row hE2.out (Nat.le_refl _) _))
  · have hfin0 := fun w' h => HF.out _ w' (HM.out.trans (by rw [if_neg h1])) h
    have hfin : Hid (∀ w', Below N w w' → Po (.returned (.tuple #[.agg #[.int .i64 0, .int .i64 0, .int .i64 0, .int .i64 0, .int .i64 0, .int .i64 0, .int .i64 0, .int .i64 0, .int .i64 0, .int .i64 0, .int .u8 0], .int .i64 3])) w') := hfin0
    clear HM HF HI hfin0
    cases ok with
    | false =>
      clear h1
      go_enter Tryd.func21, Tryd.ntmps21
      go_wp2_with fail
      clear hw0 hN
      refine (HR.out _).mono ?_
      rintro e w1 ⟨rfl, hb1⟩
      have hb1a : Hid (Below w0.heap.size w0 (w1.alloc (.cells #[.int .i64 sh, .int .i64 a0, .int .i64 a1, .int .i64 a2, .int .i64 a3, .int .i64 a4, .int .i64 a5, .int .i64 a6, .int .i64 a7, .int .i64 na, .int .u8 zo] 43))) := hb1.alloc hb1.size _
      have hB2 := (HWh.out _ hb1a.out).1
      have hE2 := Lib.hid (HWh.out _ hb1a.out).2
      clear hb1
      go_wp2_with (refine wpList_store_row rfl 43 (.tmp 2) (.tmp 18) rfl N _ rfl rfl 43 _ hB2 (by kernel_rfl) (by kernel_rfl) (by kernel_rfl) ?_)
      exact bodyPost_ret (v := .tuple #[.agg (tx 0 z8 0 0).toArray, .int .i64 3]) (fin_loc _ _ N (tx 0 z8 0 0) _ rfl rfl (row_tx (Y := tx 0 z8 0 0) hB2) rfl) rfl (hfin.out _ (below_row hE2.out (Nat.le_refl _) _))
    | true =>
      have hz : ¬ zo = 0 := fun h => h1 ⟨rfl, h⟩
      have he3 : ((zo : Int) == 0) = false := by rw [beq_eq_false_iff_ne]; omega
      clear h1 hz
      go_enter Tryd.func21, Tryd.ntmps21
      go_wp2_with fail
      clear hw0 hN
      refine (HR.out _).mono ?_
      rintro e w1 ⟨rfl, hb1⟩
      have hb1a : Hid (Below w0.heap.size w0 (w1.alloc (.cells #[.int .i64 sh, .int .i64 a0, .int .i64 a1, .int .i64 a2, .int .i64 a3, .int .i64 a4, .int .i64 a5, .int .i64 a6, .int .i64 a7, .int .i64 na, .int .u8 zo] 43))) := hb1.alloc hb1.size _
      have hB2 := (HWh.out _ hb1a.out).1
      have hE2 := Lib.hid (HWh.out _ hb1a.out).2
      clear hb1
      go_wp2_with (refine wpList_store_row rfl 43 (.tmp 2) (.tmp 18) rfl N _ rfl rfl 43 _ hB2 (by kernel_rfl) (by kernel_rfl) (by kernel_rfl) ?_)
      exact bodyPost_ret (v := .tuple #[.agg (tx 0 z8 0 0).toArray, .int .i64 3]) (fin_loc _ _ N (tx 0 z8 0 0) _ rfl rfl (row_tx (Y := tx 0 z8 0 0) hB2) rfl) rfl (hfin.out _ (below_row hE2.out (Nat.le_refl _) _))
theorem locF_good (r : Rd) (h : Good r) : FG (locF r).2.1 ∧ (locF r).2.2.1 ≤ 999999999 ∧ (locF r).1 ≤ 3 := by
  unfold locF
  split
  · split
    · exact ⟨h.1, h.2.1, h.2.2.1⟩
    · exact ⟨FG.z8, Nat.zero_le _, Nat.zero_le _⟩
  · exact ⟨FG.z8, Nat.zero_le _, Nat.zero_le _⟩
def StrE (t : ByteArray) (en : Int) (w : World) (e : Ending) (w' : World) : Prop := e = .returned (.tuple #[.string t, .int .i64 en]) ∧ Below w.heap.size w w'
def locT (x : Lc) : ByteArray := if x.2.2.2 = 0 then mkB (canL x.1 x.2.1 x.2.2.1) else ⟨#[]⟩
set_option maxRecDepth 100000 in
set_option maxHeartbeats 8000000 in
theorem Local_any (s : ByteArray) (w : World) (hT : Tabs w) (hs : s.size ≤ 1000000) : Calls Tryd.prog 9 #[.string s] w (StrE (locT (locF (rd s.data.toList))) (locF (rd s.data.toList)).2.2.2 w) := by
  obtain ⟨⟨hf, hf2⟩, hna, hsh⟩ := locF_good _ (rd_good s.data.toList)
  have HR := Lib.hid (readLocal_any s w hT hs)
  generalize locF (rd s.data.toList) = x at *
  obtain ⟨sh, f, na, en⟩ := x
  replace hf : f.length = 8 := hf
  replace hf2 : ∀ k, f.getD k 0 ≤ 1000000000 := hf2
  replace hna : na ≤ 999999999 := hna
  have HC := fun W h => canonical_any sh f na 0 hf hf2 hna W h
  have HF : Hid (∀ t w', t = (if en = 0 then mkB (canL sh f na) else ⟨#[]⟩) → Below w.heap.size w w' → StrE (locT (sh, f, na, en)) (sh, f, na, en).2.2.2 w (.returned (.tuple #[.string t, .int .i64 en])) w') := fun x w' h1 h2 => by rw [h1]; exact ⟨rfl, h2⟩
  generalize hPo : StrE (locT (sh, f, na, en)) (sh, f, na, en).2.2.2 w = Po at *
  clear hPo
  obtain ⟨a0, a1, a2, a3, a4, a5, a6, a7, rfl⟩ : ∃ a0 a1 a2 a3 a4 a5 a6 a7, f = [a0, a1, a2, a3, a4, a5, a6, a7] := by
    match f, hf with
    | [a0, a1, a2, a3, a4, a5, a6, a7], _ => exact ⟨a0, a1, a2, a3, a4, a5, a6, a7, rfl⟩
  replace HR : Hid (Calls Tryd.prog 21 #[.string s] w fun e w' => e = .returned (.tuple #[.agg #[.int .i64 sh, .int .i64 a0, .int .i64 a1, .int .i64 a2, .int .i64 a3, .int .i64 a4, .int .i64 a5, .int .i64 a6, .int .i64 a7, .int .i64 na, .int .u8 0], .int .i64 en]) ∧ Below w.heap.size w w') := HR
  replace HC : Hid (∀ W, Tabs W → Calls Tryd.prog 22 #[.agg #[.int .i64 sh, .int .i64 a0, .int .i64 a1, .int .i64 a2, .int .i64 a3, .int .i64 a4, .int .i64 a5, .int .i64 a6, .int .i64 a7, .int .i64 na, .int .u8 0]] W (StrP (canL sh [a0, a1, a2, a3, a4, a5, a6, a7] na) W)) := HC
  unfold StrP at HC
  generalize mkB (canL sh [a0, a1, a2, a3, a4, a5, a6, a7] na) = tx9 at *
  have HT : Hid (∀ W, Below w.heap.size w W → Tabs W) := fun W hb => hT.below hb hT.1
  clear hT hs hf hf2 hna hsh
  by_cases he : en = 0
  · subst he
    have hfin := Lib.hid (fun w' h => HF.out tx9 w' (by rw [if_pos rfl]) h)
    clear HF
    go_enter Tryd.func9, Tryd.ntmps9
    go_wp2_with fail
    refine HR.out.mono ?_
    rintro e w1 ⟨rfl, hb1⟩
    have hb1h := Lib.hid hb1
    clear hb1
    go_wp2_with fail
    have hba : Hid (Below w.heap.size w (w1.alloc (.cells #[.int .i64 sh, .int .i64 a0, .int .i64 a1, .int .i64 a2, .int .i64 a3, .int .i64 a4, .int .i64 a5, .int .i64 a6, .int .i64 a7, .int .i64 na, .int .u8 0] 43))) := hb1h.out.alloc hb1h.out.size _
    refine (HC.out _ (HT.out _ hba.out)).mono ?_
    rintro e w2 ⟨rfl, hb2⟩
    have hfin2 := Lib.hid (hfin.out _ (bt hba hb2).out)
    clear hb2 hba hb1h hfin
    go_wp2
    first | exact hfin2.out | (go_ret2; exact hfin2.out)
  · have hfin := Lib.hid (fun w' h => HF.out ⟨#[]⟩ w' (by rw [if_neg he]) h)
    clear HF
    go_enter Tryd.func9, Tryd.ntmps9
    go_wp2_with fail
    refine HR.out.mono ?_
    rintro e w1 ⟨rfl, hb1⟩
    have hfin2 := Lib.hid (hfin.out _ hb1)
    have hfin3 := Lib.hid (hfin.out _ (hb1.alloc hb1.size (.cells #[.int .i64 sh, .int .i64 a0, .int .i64 a1, .int .i64 a2, .int .i64 a3, .int .i64 a4, .int .i64 a5, .int .i64 a6, .int .i64 a7, .int .i64 na, .int .u8 0] 43)))
    clear hb1 hfin
    go_wp2
    first | exact hfin2.out | exact hfin3.out | (go_ret2; first | exact hfin2.out | exact hfin3.out)
end Go.Proofs.YtckeefjmamggmaaDoor
