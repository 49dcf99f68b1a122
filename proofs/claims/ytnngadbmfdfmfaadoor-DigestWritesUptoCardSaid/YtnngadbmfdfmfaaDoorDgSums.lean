/-
  Helper: the walk of the function Sum.
-/
import Derived.Test.YtnngadbmfdfmfaaDoorDgSum
namespace Go.Proofs.YtnngadbmfdfmfaaDoor
open Go.RowKit
set_option linter.unusedVariables false

/-- the cells behind a slice of strings -/
def Rs (w : World) (a : Option Addr) (z : List ByteArray) : Prop :=
  z = [] ∨ ∃ b off, a = some ⟨b, off, none⟩ ∧ b < w.heap.size ∧ ∀ i, i < z.length → w.cell? ⟨b, off + i, none⟩ = some (.string (z.getD i ⟨#[]⟩))
theorem Rs.go {w w' : World} {a : Option Addr} {z : List ByteArray} (h : Rs w a z) (hb : Below w.heap.size w w') : Rs w' a z := by
  rcases h with h | ⟨b, off, rfl, hlt, hc⟩
  · exact .inl h
  · exact .inr ⟨b, off, rfl, Nat.lt_of_lt_of_le hlt hb.size, fun i hi => by rw [hb.cell hlt]; exact hc i hi⟩
theorem Rs.at {w : World} {a : Option Addr} {z : List ByteArray} (h : Rs w a z) (i : Nat) (hi : i < z.length) : ∃ b off, a = some ⟨b, off, none⟩ ∧ w.cell? ⟨b, off + i, none⟩ = some (.string (z.getD i ⟨#[]⟩)) := by
  rcases h with rfl | ⟨b, off, rfl, hlt, hc⟩
  · simp at hi
  · exact ⟨b, off, rfl, hc i hi⟩
/-- all the bytes of the first strings -/
def catS (z : List ByteArray) : List UInt8 := z.flatMap fun s => s.data.toList
theorem catS_snoc (z : List ByteArray) (k : Nat) (h : k < z.length) : catS (z.take (k + 1)) = catS (z.take k) ++ (z.getD k ⟨#[]⟩).data.toList := by
  unfold catS
  rw [List.take_succ_eq_append_getElem h, List.flatMap_append, List.getD_eq_getElem?_getD, List.getElem?_eq_getElem h]
  simp
theorem catS_app (x y : List ByteArray) : catS (x ++ y) = catS x ++ catS y := by unfold catS; rw [List.flatMap_append]
theorem catS_le (z : List ByteArray) (k : Nat) : (catS (z.take k)).length ≤ (catS z).length := by
  have h := catS_app (z.take k) (z.drop k)
  rw [List.take_append_drop] at h
  rw [h, List.length_append]; omega
set_option maxRecDepth 100000 in
set_option maxHeartbeats 4000000 in
theorem sum_any (z : List ByteArray) (a : Option Addr) (n cap : Nat) (hn : z.length = n) (hn2 : n ≤ 1000000) (w : World) (hr : Rs w a z) (hT : Tabs w) (hl : (catS z).length ≤ 10000) :
    Calls Tryd.prog 10 #[.slice a n cap] w (TxtP (sumF (catS z)) w) := by
  have hz := zero73
  have hFi : Hid (∀ l w1 e w', Below w.heap.size w w1 → l = catS z → TxtP (sumF l) w1 e w' → TxtP (sumF (catS z)) w e w') := fun l w1 e w' h1 h2 h3 => by
    subst h2; exact ⟨h3.1, h1.trans (h3.2.mono h1.size)⟩
  generalize TxtP (sumF (catS z)) w = Po at *
  have hNew := Lib.hid (fun W => new_any W)
  go_enter Tryd.func10, Tryd.ntmps10
  go_wp2_with fail
  refine (hNew.out _).mono ?_
  rintro e w1 ⟨rfl, hb1⟩
  obtain ⟨g, hg⟩ : ∃ g, w1.heap.size = g := ⟨_, rfl⟩
  have hZ : Hid (Blk (w1.alloc (.cells (hv zw zb 0).toArray 35)) g 35 (hv zw zb 0)) := by rw [← hg]; exact Blk.new w1 _ _
  have hZ2 : Hid (Blk ((w1.alloc (.cells (hv zw zb 0).toArray 35)).setRow g (HV []).toArray) g 35 (HV (catS (z.take 0)))) := hZ.out.row (HV [])
  have hgw : w.heap.size ≤ g := by rw [← hg]; exact hb1.size
  have hbe : Hid (Below w.heap.size w ((w1.alloc (.cells (hv zw zb 0).toArray 35)).setRow g (HV []).toArray)) := below_row (hb1.alloc (by omega) _) hgw _
  have i1 : Hid ((Tryd.prog.info? 35).map (·.size) = some (HV []).toArray.size) := i73 _ _ _
  have o1 : Hid ((HV []).toArray.all (·.oneCell') = true) := arr_all (hv_one _ _ _)
  have z1 : Hid ((hv zw zb 0).toArray.size = (HV []).toArray.size) := by show _ = _; unfold HV; simp [hv_len]
  go_wp2_with (refine wpList_store_row rfl 35 (.tmp 3) (.tmp 6) rfl g _ rfl rfl 35 _ hZ.out i1.out z1.out o1.out ?_)
  generalize (w1.alloc (.cells (hv zw zb 0).toArray 35)).setRow g (HV []).toArray = wb at *
  clear hz hZ i1 o1 z1 hNew hb1 hg
  go_loopw [9] (fun i wr => ∃ k : Nat, k ≤ n ∧ i = .int .i64 k ∧ Hid (Blk wr g 35 (HV (catS (z.take k)))) ∧ Hid (Below w.heap.size w wr)) (fun i _ => n - (intOf i).toNat)
  case atStart => exact ⟨0, Nat.zero_le _, rfl, hZ2, hbe⟩
  case round =>
    obtain ⟨k, hk, rfl, hB, hbel⟩ := hrel
    by_cases hlt : k < n
    · obtain ⟨b, off, rfl, hc⟩ := (hr.go hbel.out).at k (by omega)
      have hkI : (k : Int) < (n : Int) := by omega
      have hcs := catS_snoc z k (by omega)
      have hle := catS_le z (k + 1)
      have hTr := hT.go hbel.out
      generalize z.getD k ⟨#[]⟩ = s at *
      have hwr := Lib.hid (write_any (catS (z.take k)) s wr hTr (by rw [hcs, List.length_append, ← Lib.size_eq] at hle; omega))
      rw [← hcs] at hwr
      have hcsh := Lib.hid hcs
      have i1 : Hid ((Tryd.prog.info? 35).map (·.size) = some (HV (catS (z.take k))).toArray.size) := i73 _ _ _
      have i2 : Hid ((Tryd.prog.info? 35).map (·.size) = some (HV (catS (z.take (k + 1)))).toArray.size) := i73 _ _ _
      have o2 : Hid ((HV (catS (z.take (k + 1)))).toArray.all (·.oneCell') = true) := arr_all (hv_one _ _ _)
      have z2 : Hid ((HV (catS (z.take k))).toArray.size = (HV (catS (z.take (k + 1)))).toArray.size) := by show _ = _; unfold HV; simp [hv_len]
      have hglt : Hid (g < wr.heap.size) := hB.out.lt
      clear hcs hle hTr hlt hcsh
      generalize hL2 : catS (z.take (k + 1)) = L2 at *
      have hL2h := Lib.hid hL2
      clear hL2
      generalize catS (z.take k) = L1 at *
      go_wp2_with (refine wpList_load_row rfl 35 (.tmp 3) rfl g rfl 35 _ _ _ hB.out Tryd.underlying35 rfl i1.out ?_)
      refine hwr.out.mono ?_
      rintro e w2 ⟨rfl, hb2⟩
      have hB2 : Hid (Blk w2 g 35 (HV L1)) := hB.out.go hb2 hglt.out
      have hB3 : Hid (Blk (w2.setRow g (HV L2).toArray) g 35 (HV L2)) := hB2.out.row (HV L2)
      have hbe3 : Hid (Below w.heap.size w (w2.setRow g (HV L2).toArray)) := below_row (hbel.out.trans (hb2.mono hbel.out.size)) hgw _
      clear hwr hb2 hr
      go_wp2_with (refine wpList_store_row rfl 35 (.tmp 3) (.tmp 15) rfl g _ rfl rfl 35 _ hB2.out i2.out z2.out o2.out ?_)
      go_roundw
      case rel => exact ⟨k + 1, by omega, by go_num, by rw [hL2h.out]; exact hB3, hbe3⟩
      case measure => simp [intOf]; omega
    · obtain rfl : k = n := by omega
      have hall : catS (z.take k) = catS z := by rw [List.take_of_length_le (by omega)]
      rw [hall] at hB
      have i1 : Hid ((Tryd.prog.info? 35).map (·.size) = some (HV (catS z)).toArray.size) := i73 _ _ _
      have hsm := Lib.hid (sumH_any (catS z) wr (hT.go hbel.out) hl)
      have hF2 : Hid (∀ e w', TxtP (sumF (catS z)) wr e w' → Po e w') := fun e w' h => hFi.out _ _ _ _ hbel.out rfl h
      clear hall hFi hr
      generalize hcv : HV (catS z) = cs at *
      generalize sumF (catS z) = r at *
      go_wp2_with (refine wpList_load_row rfl 35 (.tmp 3) rfl g rfl 35 _ _ _ hB.out Tryd.underlying35 rfl i1.out ?_)
      refine hsm.out.mono ?_
      rintro e w2 ⟨rfl, hb2⟩
      have hfin := Lib.hid (hF2.out _ _ ⟨rfl, hb2⟩)
      clear hF2 hsm
      go_wp2
      exact hfin.out
end Go.Proofs.YtnngadbmfdfmfaaDoor
