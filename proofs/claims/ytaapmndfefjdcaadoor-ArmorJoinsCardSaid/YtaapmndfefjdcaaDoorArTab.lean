/-
  Helper: the walk of digitValues.
-/
import Derived.Test.YtaapmndfefjdcaaDoorArB64
import Derived.Laws.Tables
namespace Go.Proofs.YtaapmndfefjdcaaDoor
open Go.RowKit
set_option linter.unusedVariables false

def zero256 : Array Value := (bytes (List.replicate 256 0)).toArray
set_option maxRecDepth 100000 in
theorem zero_tab (W : World) : (zeroValue 38).run Tryd.prog W = .ok (.agg zero256) W := by kernel_rfl
def t255 (k : Nat) : List UInt8 := (List.range 256).map fun j => if j < k then 255 else 0
theorem t255_len (k : Nat) : (t255 k).length = 256 := by unfold t255; simp
theorem t255_zero : t255 0 = List.replicate 256 0 := by decide +kernel
theorem t255_get (k i : Nat) (h : i < 256) : (t255 k)[i]? = some (if i < k then 255 else 0) := by
  unfold t255; rw [List.getElem?_map, List.getElem?_range h]; rfl
theorem t255_step (k : Nat) (h : k < 256) : (t255 k).set k (UInt8.ofNat 255) = t255 (k + 1) := by
  apply List.ext_getElem?
  intro i
  by_cases hi : i < 256
  · rw [List.getElem?_set, t255_get _ _ hi, t255_get _ _ hi]
    by_cases e : k = i
    · rw [if_pos e, if_pos (by rw [t255_len]; omega), if_pos (by omega)]; rfl
    · rw [if_neg e]
      by_cases e2 : i < k
      · rw [if_pos e2, if_pos (by omega)]
      · rw [if_neg e2, if_neg (by omega)]
  · rw [List.getElem?_eq_none (by rw [List.length_set, t255_len]; omega), List.getElem?_eq_none (by rw [t255_len]; omega)]
/-- the table behind the first k digits -/
def tabk (al : List UInt8) : Nat → List UInt8
  | 0 => t255 256
  | k + 1 => (tabk al k).set (al.getD k 0).toNat (UInt8.ofNat k)
def tab (al : List UInt8) : List UInt8 := tabk al al.length
theorem tabk_len (al : List UInt8) (k : Nat) : (tabk al k).length = 256 := by
  induction k with
  | zero => exact t255_len _
  | succ k ih => simp only [tabk]; rw [List.length_set, ih]
theorem size_tab : (Tryd.prog.info? 38).map (·.size) = some 256 := by kernel_rfl
theorem bytes_all (l : List UInt8) : (bytes l).toArray.all (·.oneCell') = true := by
  rw [Array.all_eq_true_iff_forall_mem]
  intro v hv
  exact cells_one l v (by simpa using hv)
theorem below_row {B g : Nat} {a w : World} (h : Below B a w) (hg : B ≤ g) (cs : Array Value) : Below B a (w.setRow g cs) :=
  ⟨h.os, h.tape, h.output, by rw [size_setRow]; exact h.size, fun k hk => by
    rw [← h.block k hk]
    unfold World.setRow
    simp only [Array.getElem?_modify]
    rw [if_neg (by omega)]⟩
/-- an array of bytes comes back -/
def ArrP (l : List UInt8) (w : World) (e : Ending) (w' : World) : Prop := e = .returned (.agg (bytes l).toArray) ∧ Below w.heap.size w w'
set_option maxRecDepth 100000 in
set_option maxHeartbeats 4000000 in
theorem digits_any (al : ByteArray) (w : World) (hs : al.size ≤ 64) :
    Calls Tryd.prog 22 #[.string al] w (ArrP (tab al.data.toList) w) := by
  have HZ := Lib.hid zero_tab
  have hz := zero_tab
  have hlen : al.data.toList.length = al.size := by simp
  have HG : Hid (∀ k (h : k < al.size), tabk al.data.toList (k + 1) = (tabk al.data.toList k).set (al[k]).toNat (UInt8.ofNat k)) := fun k h => by
    simp only [tabk]; rw [ba_getD al k h]
  have HE : Hid (tab al.data.toList = tabk al.data.toList al.size) := by show _ = _; unfold tab; rw [hlen]
  clear hlen
  generalize al.data.toList = l at *
  have hn0 : (w.alloc (.cells zero256 38)).heap.size = w.heap.size + 1 := by simp
  have hr0 : Hid (Row ((w.alloc (.cells zero256 38)).alloc (.cells zero256 38)) w.heap.size 38 (t255 0)) := by
    show _ = _
    rw [t255_zero]
    exact heap_alloc2_old w _ _
  have hr1 : Hid (Row ((w.alloc (.cells zero256 38)).alloc (.cells zero256 38)) (w.heap.size + 1) 38 (t255 0)) := by
    show _ = _
    rw [t255_zero]
    exact heap_alloc2_new w _ _
  have hb : Hid (Below w.heap.size w ((w.alloc (.cells zero256 38)).alloc (.cells zero256 38))) := ((Below.refl _ w).alloc (Nat.le_refl _) _).alloc (by simp) _
  go_enter Tryd.func22, Tryd.ntmps22
  go_wp2
  generalize (w.alloc (.cells zero256 38)).alloc (.cells zero256 38) = wb at *
  clear hz
  go_loopw [6] (fun i wr => ∃ k : Nat, k ≤ 256 ∧ i = .int .i64 k ∧ Hid (Row wr w.heap.size 38 (t255 0)) ∧ Hid (Row wr (w.heap.size + 1) 38 (t255 k)) ∧ Below w.heap.size w wr) (fun i _ => 256 - (intOf i).toNat)
  case atStart => exact ⟨0, by omega, rfl, hr0, hr1, hb.out⟩
  case round =>
    obtain ⟨k, hk, rfl, ha, hbr, hbel⟩ := hrel
    by_cases hlt : k < 256
    · have hc1 := hbr.out.cell k (by rw [t255_len]; exact hlt)
      have hc2 := hbr.out.free k
      have hst := Lib.hid (t255_step k hlt)
      have hp : Hid (Row (wr.setCell ⟨w.heap.size + 1, k, none⟩ (.int .u8 255)) (w.heap.size + 1) 38 ((t255 k).set k (UInt8.ofNat 255))) := hbr.out.put k 255 255 (by rw [t255_len]; exact hlt) (by omega) rfl
      have ha2 : Hid (Row (wr.setCell ⟨w.heap.size + 1, k, none⟩ (.int .u8 255)) w.heap.size 38 (t255 0)) := by
        show _ = _
        rw [Below.heap_setCell _ _ _ _ (by simp)]; exact ha.out
      generalize (t255 k).getD k 0 = x at *
      go_wp2
      go_roundw
      case rel => exact ⟨k + 1, by omega, by go_num, ha2, by rw [← hst.out]; exact hp, hbel.setCell (by simp) _⟩
      case measure => simp [intOf]; omega
    · obtain rfl : k = 256 := by omega
      clear hlt
      go_wp2
      obtain ⟨wo, rfl⟩ : ∃ wo : World, wo = wr := ⟨_, rfl⟩
      go_loopw [14] (fun i wr => ∃ k : Nat, k ≤ al.size ∧ i = .int .i64 k ∧ Hid (Row wr w.heap.size 38 (t255 0)) ∧ Hid (Row wr (w.heap.size + 1) 38 (tabk l k)) ∧ Below w.heap.size w wr) (fun i _ => al.size - (intOf i).toNat)
      case atStart => exact ⟨0, by omega, rfl, ha, hbr, hbel⟩
      case round =>
        obtain ⟨k, hk, rfl, ha, hbr, hbel⟩ := hrel
        by_cases hlt : k < al.size
        · have hcl : (al[k]).toNat < 256 := UInt8.toNat_lt _
          have hcl2 : ((al[k]).toNat : Int) < 256 := by omega
          have hc1 := hbr.out.cell (al[k]).toNat (by rw [tabk_len]; exact hcl)
          have hc2 := hbr.out.free (al[k]).toNat
          have hst := Lib.hid (HG.out k hlt)
          have hp : Hid (Row (wr.setCell ⟨w.heap.size + 1, (al[k]).toNat, none⟩ (.int .u8 (k : Int))) (w.heap.size + 1) 38 ((tabk l k).set (al[k]).toNat (UInt8.ofNat k))) := hbr.out.put (al[k]).toNat k k (by rw [tabk_len]; exact hcl) (by omega) rfl
          have ha2 : Hid (Row (wr.setCell ⟨w.heap.size + 1, (al[k]).toNat, none⟩ (.int .u8 (k : Int))) w.heap.size 38 (t255 0)) := by
            show _ = _
            rw [Below.heap_setCell _ _ _ _ (by simp)]; exact ha.out
          have hk255 : (k : Int) ≤ 255 := by omega
          generalize (tabk l k).getD (al[k]).toNat 0 = x at *
          go_wp2
          go_roundw
          case rel => exact ⟨k + 1, by omega, by go_num, ha2, by rw [hst.out]; exact hp, hbel.setCell (by simp) _⟩
          case measure => simp [intOf]; omega
        · obtain rfl : k = al.size := by omega
          rw [← HE.out] at hbr
          have hr2 : Hid (Row (wr.setRow w.heap.size (bytes (tab l)).toArray) w.heap.size 38 (tab l)) := setRow_heap _ _ _ _ _ _ ha.out
          have hlt2 : (tab l).length = 256 := tabk_len _ _
          have hba := Lib.hid (bytes_all (tab l))
          have hsz1 : Hid ((Tryd.prog.info? 38).map (·.size) = some (bytes (tab l)).toArray.size) := by
            show _ = _
            rw [size_tab]; simp [bytes_len, hlt2]
          have hsz2 : Hid ((bytes (t255 0)).toArray.size = (bytes (tab l)).toArray.size) := by
            show _ = _
            simp [bytes_len, hlt2, t255_len]
          have hbf := Lib.hid (below_row hbel (Nat.le_refl _) (bytes (tab l)).toArray)
          clear hlt2
          generalize htl : tab l = tl at *
          have htlh := Lib.hid htl
          clear htl
          go_wp2_with (first | (refine wpList_load_row rfl 38 (.tmp 3) rfl (w.heap.size + 1) rfl 38 _ _ _ hbr.out Tryd.underlying38 rfl hsz1.out ?_) | (refine wpList_store_row rfl 38 (.tmp 2) (.tmp 24) rfl w.heap.size _ rfl rfl 38 _ ha.out hsz1.out hsz2.out hba.out ?_))
          refine bodyPost_ret (v := .agg (bytes tl).toArray) (results_cell_row rfl _ _ w.heap.size 38 _ _ _ rfl hr2.out Tryd.underlying38 rfl hsz1.out) rfl ⟨rfl, hbf.out⟩
end Go.Proofs.YtaapmndfefjdcaaDoor
