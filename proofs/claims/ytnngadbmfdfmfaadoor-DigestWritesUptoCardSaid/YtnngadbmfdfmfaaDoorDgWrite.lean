/-
  Helper: the walks of New and of Write.
-/
import Derived.Test.YtnngadbmfdfmfaaDoorDgRest
namespace Go.Proofs.YtnngadbmfdfmfaaDoor
open Go.RowKit
set_option linter.unusedVariables false

def HP (L : List UInt8) (w : World) (e : Ending) (w' : World) : Prop := e = .returned (.agg (HV L).toArray) ∧ Below w.heap.size w w'
/-- the blocks of the walk -/
def SW (N : Nat) (w wr : World) (L : List UInt8) (n : Nat) : Prop :=
  Blk wr N 35 (hv (stA L (L.length / 64)) (restF L) n) ∧ Blk wr (N + 1) 35 (hv zw zb 0) ∧ Below N w wr ∧ Tabs wr ∧ 2 ≤ N
theorem SW.spr {N : Nat} {w wr w' : World} {L : List UInt8} {n : Nat} (h : SW N w wr L n) (hs : Spr N wr w') : Blk w' (N + 1) 35 (hv zw zb 0) ∧ Below N w w' ∧ Tabs w' := by
  have hN := h.2.2.2.2
  have h1 := h.2.1.lt
  exact ⟨(hs.block _ h1 (by omega)).trans h.2.1, h.2.2.1.trans (hs.below (Nat.le_refl _) (by omega)), h.2.2.2.1.below (hs.below (Nat.le_refl _) (by omega)) hN⟩
def lenOf (v : Value) : Nat := match v with | .string t => t.size | _ => 0
set_option maxRecDepth 100000 in
set_option maxHeartbeats 4000000 in
theorem new_any (w : World) : Calls Tryd.prog 13 #[] w (HP [] w) := by
  have hz := zero73
  have e0 : HP [] w = fun e w' => e = .returned (.agg (hv zw zb 0).toArray) ∧ Below w.heap.size w w' := by unfold HP; rw [HV_nil]
  rw [e0]
  have hb : Hid (Below w.heap.size w ((w.alloc (.cells (hv zw zb 0).toArray 35)).setRow w.heap.size (hv zw zb 0).toArray)) := below_row ((Below.refl _ w).alloc (Nat.le_refl _) _) (Nat.le_refl _) _
  have hB : Hid (Blk (w.alloc (.cells (hv zw zb 0).toArray 35)) w.heap.size 35 (hv zw zb 0)) := Blk.new w _ _
  have hB2 := Lib.hid (hB.out.row (hv zw zb 0))
  have i1 := Lib.hid (i73 zw zb 0)
  have o1 := Lib.hid (arr_all (hv_one zw zb 0))
  clear e0
  go_enter Tryd.func13, Tryd.ntmps13
  go_wp2_with (refine wpList_store_row rfl 35 (.tmp 0) (.tmp 1) rfl w.heap.size _ rfl rfl 35 _ hB.out i1.out rfl o1.out ?_)
  exact bodyPost_ret (v := .agg (hv zw zb 0).toArray) (results_cell_row rfl _ _ w.heap.size 35 _ _ _ rfl hB2.out Tryd.underlying35 rfl i1.out) rfl ⟨rfl, hb.out⟩
set_option maxRecDepth 100000 in
set_option maxHeartbeats 4000000 in
theorem write_any (L : List UInt8) (s : ByteArray) (w : World) (hT : Tabs w) (hl : L.length + s.size ≤ 1000000) :
    Calls Tryd.prog 14 #[.agg (HV L).toArray, .string s] w (HP (L ++ s.data.toList) w) := by
  have hz := zero73
  obtain ⟨N, hN⟩ : ∃ N, w.heap.size = N := ⟨_, rfl⟩
  have hlen : s.data.toList.length = s.size := by simp
  have hFi : Hid (∀ w', Below N w w' → HP (L ++ s.data.toList) w (.returned (.agg (HV (L ++ s.data.toList)).toArray)) w') := fun w' h => ⟨rfl, by rw [hN]; exact h⟩
  generalize HP (L ++ s.data.toList) w = Po at *
  have hS0 : Hid (SW N w ((w.alloc (.cells ((HV L).set 72 (.int .u64 ((L.length : Int) + s.size))).toArray 35)).alloc (.cells (hv zw zb 0).toArray 35)) L (L.length + s.size)) := by
    have e0 : (HV L).set 72 (.int .u64 ((L.length : Int) + s.size)) = hv (stA L (L.length / 64)) (restF L) (L.length + s.size) := by
      unfold HV
      rw [show ((L.length : Int) + s.size) = ((L.length + s.size : Nat) : Int) by omega, hv_setn]
    rw [e0]
    have h1 := Blk.new w 35 (hv (stA L (L.length / 64)) (restF L) (L.length + s.size))
    have h2 := Blk.new (w.alloc (.cells (hv (stA L (L.length / 64)) (restF L) (L.length + s.size)).toArray 35)) 35 (hv zw zb 0)
    have e1 : (w.alloc (.cells (hv (stA L (L.length / 64)) (restF L) (L.length + s.size)).toArray 35)).heap.size = N + 1 := by simp [hN]
    rw [e1] at h2
    rw [hN] at h1
    have hb := (((Below.refl N w).alloc (by omega) (.cells (hv (stA L (L.length / 64)) (restF L) (L.length + s.size)).toArray 35)).alloc (by rw [e1]; omega) (.cells (hv zw zb 0).toArray 35))
    have hn2 : 2 ≤ N := by have := hT.1; omega
    exact ⟨h1.old _, h2, hb, hT.below hb hn2, hn2⟩
  have hB0 : Hid (Blk ((w.alloc (.cells (HV L).toArray 35)).alloc (.cells (hv zw zb 0).toArray 35)) N 35 (HV L)) := by
    have h1 := Blk.new w 35 (HV L)
    rw [hN] at h1
    exact h1.old _
  have c72 := hB0.out.cell 72 _ (hv_n _ _ _)
  have f72 := hB0.out.free 72
  obtain ⟨u, hu⟩ : ∃ u, L.length % 64 = u := ⟨_, rfl⟩
  have hmod : (L.length : Int) % 64 = (u : Int) := by omega
  have hul : u < 64 := by omega
  have huh := Lib.hid hu
  clear hu
  generalize hsl : s.data.toList = l at *
  go_enter Tryd.func14, Tryd.ntmps14
  go_wp2
  generalize (w.alloc (.cells ((HV L).set 72 (.int .u64 ((L.length : Int) + s.size))).toArray 35)).alloc (.cells (hv zw zb 0).toArray 35) = wb at *
  have hTN : 2 ≤ N := hS0.out.2.2.2.2
  clear hz hN hB0 c72 f72 hmod hT
  have hl0 : Hid (s.data.toList = l) := hsl
  clear hsl
  go_loopw [1, 5] (fun st us wr => ∃ (p : Nat) (t : ByteArray) (v : Nat), p ≤ s.size ∧ st = .string t ∧ us = .int .i64 v ∧ v < 64 ∧ Hid (v = (L ++ l.take p).length % 64) ∧ Hid (t.data.toList = l.drop p) ∧ t.size = s.size - p ∧ Hid (SW N w wr (L ++ l.take p) (L.length + s.size))) (fun st _ _ => lenOf st)
  case atStart =>
    refine ⟨0, s, u, by omega, rfl, rfl, hul, ?_, ?_, by omega, ?_⟩
    · show _ = _; rw [← huh.out, List.take_zero, List.append_nil]
    · exact hl0.out
    · rw [List.take_zero, List.append_nil]; exact hS0
  case round =>
    obtain ⟨p, t, v, hp, rfl, rfl, hvl, hvm, htl, hts, hS⟩ := hrel
    by_cases hlt : p < s.size
    · obtain ⟨c, hc⟩ : ∃ c, c = Nat.min t.size (64 - v) := ⟨_, rfl⟩
      have hc1 : 0 < c ∧ c ≤ t.size ∧ v + c ≤ 64 ∧ p + c ≤ s.size := by
        have : c = min t.size (64 - v) := hc
        omega
      have hch := Lib.hid hc
      have hxl : (t.data.toList.take c).length = c := by rw [List.length_take, ← Lib.size_eq]; omega
      have hcur : L ++ l.take (p + c) = (L ++ l.take p) ++ t.data.toList.take c := by
        rw [htl.out, List.append_assoc, List.take_add]
      have hR := rest_step (L ++ l.take p) (t.data.toList.take c) (by rw [hxl]; omega) (by rw [hxl, ← hvm.out]; omega)
      rw [← hvm.out, ← hcur] at hR
      have hstA := stA_part (L ++ l.take p) (t.data.toList.take c)
      have hstB := stA_full (L ++ l.take p) (t.data.toList.take c)
      rw [hxl, ← hvm.out, ← hcur] at hstA hstB
      have hlc : (L ++ l.take (p + c)).length = (L ++ l.take p).length + c := by rw [hcur, List.length_append, hxl]
      have hRh := Lib.hid hR
      have hstAh := Lib.hid hstA
      have hstBh := Lib.hid hstB
      have hBk := Lib.hid hS.out.1
      have hne : t.toList.isEmpty = false := by
        rw [Lib.toList_data]
        have h9 : t.data.toList.length = t.size := (Lib.size_eq t).symm
        cases hd : t.data.toList with
        | nil => rw [hd] at h9; simp at h9; omega
        | cons => rfl
      have hvI : (v : Int) ≤ 64 := by omega
      have hsl : ∀ W : World, (Instr.sliceAt 32 (.pointer (some ⟨N, 8, none⟩)) (some (.int .i64 (v : Int))) none none).run Tryd.prog W = .ok (.slice (some ⟨N, 8 + v, none⟩) (64 - v) (64 - v)) W := fun W => sl_l W N 8 v v rfl hvl
      have hcI : (c : Int) ≤ (t.size : Int) := by omega
      have hdrop : Hid ((t.extract c t.size).data.toList = l.drop (p + c)) := by
        show _ = _
        have e1 : (t.extract c t.size).data.toList = t.data.toList.drop c := by simp [List.take_of_length_le]
        rw [e1, htl.out, List.drop_drop]
      have hsz : Hid ((t.extract c t.size).size = s.size - (p + c)) := by
        show _ = _
        have e1 : (t.extract c t.size).size = t.size - c := by simp
        rw [e1, hts]; omega
      clear hR hstA hstB hcur hxl hc
      have hAdd := Lib.hid (fun W => addBlock_any (stA (L ++ l.take p) ((L ++ l.take p).length / 64)) (restF (L ++ l.take (p + c))) (L.length + s.size) N W)
      have hNx : Hid (∀ (v2 : Nat) W, v2 = (L ++ l.take (p + c)).length % 64 → SW N w W (L ++ l.take (p + c)) (L.length + s.size) → ∃ (p' : Nat) (t' : ByteArray) (v' : Nat), p' ≤ s.size ∧ Value.string (t.extract c t.size) = .string t' ∧ Value.int .i64 (v2 : Int) = .int .i64 v' ∧ v' < 64 ∧ Hid (v' = (L ++ l.take p').length % 64) ∧ Hid (t'.data.toList = l.drop p') ∧ t'.size = s.size - p' ∧ Hid (SW N w W (L ++ l.take p') (L.length + s.size))) :=
        fun v2 W h1 h2 => ⟨p + c, t.extract c t.size, v2, hc1.2.2.2, rfl, rfl, by omega, h1, hdrop.out, hsz.out, h2⟩
      have hme : Hid ((t.extract c t.size).size < t.size) := by show _ < _; rw [hsz.out, hts]; omega
      have hvn := Lib.hid hvm.out
      have hlch := Lib.hid hlc
      have htsh := Lib.hid hts
      clear hlc hvm hts
      by_cases hf : v + c = 64
      · have hfI : (v : Int) + (c : Int) = 64 := by omega
        have hS2 : Hid (∀ W, Blk W N 35 (hv (stA (L ++ l.take p) ((L ++ l.take p).length / 64)) (ovr (restF (L ++ l.take p)) v (t.data.toList.take c)) (L.length + s.size)) → Blk W N 35 (hv (stA (L ++ l.take p) ((L ++ l.take p).length / 64)) (restF (L ++ l.take (p + c))) (L.length + s.size))) := fun W h => by rw [← hRh.out]; exact h
        have hS3 : Hid (∀ W, Blk W N 35 (hv (addF (restF (L ++ l.take (p + c))) (stA (L ++ l.take p) ((L ++ l.take p).length / 64))) (restF (L ++ l.take (p + c))) (L.length + s.size)) → Blk W N 35 (hv (stA (L ++ l.take (p + c)) ((L ++ l.take (p + c)).length / 64)) (restF (L ++ l.take (p + c))) (L.length + s.size))) := fun W h => by rw [← hstBh.out hf]; exact h
        have hv0 : Hid (0 = (L ++ l.take (p + c)).length % 64) := by show _ = _; rw [hlch.out]; have := hvn.out; omega
        clear hRh hstAh hstBh hdrop hsz
        generalize L ++ l.take (p + c) = cur' at *
        generalize hAc : stA (L ++ l.take p) ((L ++ l.take p).length / 64) = Ac at *
        go_wp2_with (refine copy_str rfl (.tmp 22) (.tmp 23) _ _ rfl Tryd.underlying26 N v _ _ t rfl rfl _ _ _ _ hBk c hch.out hc1.2.2.1 ?_; intro wd hbd hsd)
        have hq := hS.out.spr hsd
        refine (hAdd.out wd hq.2.2 (hS2.out _ hbd) hTN).mono ?_
        rintro e wx ⟨rfl, hb2, hs2⟩
        have hq2 := hS.out.spr (hsd.trans hs2)
        have hq3 : Hid (SW N w wx cur' (L.length + s.size)) := ⟨hS3.out _ hb2, hq2.1, hq2.2.1, hq2.2.2, hTN⟩
        clear hq hq2 hsd hbd hb2 hs2
        go_wp2
        go_roundw
        case rel => exact hNx.out 0 wx hv0.out hq3.out
        case measure => exact hme.out
      · have hfI : ((v : Int) + (c : Int) == 64) = false := by rw [beq_eq_false_iff_ne]; omega
        have hv0 : Hid (v + c = (L ++ l.take (p + c)).length % 64) := by show _ = _; rw [hlch.out]; have := hvn.out; omega
        have hS3 : Hid (∀ W, Blk W N 35 (hv (stA (L ++ l.take p) ((L ++ l.take p).length / 64)) (ovr (restF (L ++ l.take p)) v (t.data.toList.take c)) (L.length + s.size)) → Blk W N 35 (hv (stA (L ++ l.take (p + c)) ((L ++ l.take (p + c)).length / 64)) (restF (L ++ l.take (p + c))) (L.length + s.size))) := fun W h => by rw [← hRh.out, ← hstAh.out (by omega)]; exact h
        clear hRh hstAh hstBh hdrop hsz hAdd
        generalize L ++ l.take (p + c) = cur' at *
        generalize hAc : stA (L ++ l.take p) ((L ++ l.take p).length / 64) = Ac at *
        go_wp2_with (refine copy_str rfl (.tmp 22) (.tmp 23) _ _ rfl Tryd.underlying26 N v _ _ t rfl rfl _ _ _ _ hBk c hch.out hc1.2.2.1 ?_; intro wd hbd hsd)
        have hq2 := hS.out.spr hsd
        have hq3 : Hid (SW N w wd cur' (L.length + s.size)) := ⟨hS3.out _ hbd, hq2.1, hq2.2.1, hq2.2.2, hTN⟩
        clear hq2 hsd hbd
        go_roundw
        case rel =>
          have h9 := hNx.out (v + c) wd hv0.out hq3.out
          rw [show (((v + c : Nat)) : Int) = (v : Int) + (c : Int) by omega] at h9
          exact h9
        case measure => exact hme.out
    · obtain rfl : p = s.size := by omega
      have hne : t.toList.isEmpty = true := by
        rw [Lib.toList_data]
        have h9 : t.data.toList.length = t.size := (Lib.size_eq t).symm
        cases hd : t.data.toList with
        | nil => rfl
        | cons => rw [hd] at h9; simp at h9; omega
      have hall : L ++ l.take s.size = L ++ l := by rw [List.take_of_length_le (by omega)]
      rw [hall] at hS
      have hHV : hv (stA (L ++ l) ((L ++ l).length / 64)) (restF (L ++ l)) (L.length + s.size) = HV (L ++ l) := by unfold HV; rw [List.length_append, hlen]
      have h1 := hS.out.1
      rw [hHV] at h1
      have h1h := Lib.hid h1
      have h2h := Lib.hid hS.out.2.1
      have h3h := Lib.hid (hS.out.2.1.row (HV (L ++ l)))
      have hbe := Lib.hid (hFi.out _ (below_row hS.out.2.2.1 (Nat.le_succ N) (HV (L ++ l)).toArray))
      have i1 : Hid ((Tryd.prog.info? 35).map (·.size) = some (HV (L ++ l)).toArray.size) := i73 _ _ _
      have o1 : Hid ((HV (L ++ l)).toArray.all (·.oneCell') = true) := arr_all (hv_one _ _ _)
      have z1 : Hid ((hv zw zb 0).toArray.size = (HV (L ++ l)).toArray.size) := by show _ = _; unfold HV; simp [hv_len]
      clear hall hHV h1 hFi hS hS0 hvm htl hts hlt
      generalize HV (L ++ l) = cs at *
      go_wp2_with (first | (refine wpList_load_row rfl 35 (.tmp 2) rfl N rfl 35 _ _ _ h1h.out Tryd.underlying35 rfl i1.out ?_) | (refine wpList_store_row rfl 35 (.tmp 4) (.tmp 34) rfl (N + 1) _ rfl rfl 35 _ h2h.out i1.out z1.out o1.out ?_))
      exact bodyPost_ret (v := .agg cs.toArray) (results_cell_row rfl _ _ (N + 1) 35 _ _ _ rfl h3h.out Tryd.underlying35 rfl i1.out) rfl hbe.out
end Go.Proofs.YtnngadbmfdfmfaaDoor
