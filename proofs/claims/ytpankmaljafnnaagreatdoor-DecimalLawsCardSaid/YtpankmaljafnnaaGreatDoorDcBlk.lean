/-
  Helper: whole blocks of memory; the number of package decimal as a structure of three cells.
-/
import Derived.Test.YtpankmaljafnnaaGreatDoorDcVal
import Derived.Laws.Rows
import Derived.Laws.Tables
import Derived.Deep.Cut
namespace Go.Proofs.YtpankmaljafnnaaGreatDoor
open Go.RowKit
set_option linter.unusedVariables false
set_option linter.unusedSimpArgs false

/-- a whole block -/
def Blk (w : World) (g t : Nat) (cs : List Value) : Prop := w.heap[g]? = some (.cells cs.toArray t (0, 0))
theorem Blk.lt {w : World} {g t : Nat} {cs : List Value} (h : Blk w g t cs) : g < w.heap.size := (Array.getElem?_eq_some_iff.1 h).1
theorem Blk.cell {w : World} {g t : Nat} {cs : List Value} (h : Blk w g t cs) (i : Nat) (v : Value) (hv : cs[i]? = some v) : w.cell? ⟨g, i, none⟩ = some v := by
  unfold Blk at h
  rw [cell_of_row w g i _ t (0, 0) h]
  simpa using hv
theorem Blk.free {w : World} {g t : Nat} {cs : List Value} (h : Blk w g t cs) (i : Nat) : w.frozen? ⟨g, i, none⟩ = false := by
  unfold Blk at h
  simp [World.frozen?, h]
theorem Blk.set {w : World} {g t : Nat} {cs : List Value} (h : Blk w g t cs) (i : Nat) (v : Value) : Blk (w.setCell ⟨g, i, none⟩ v) g t (cs.set i v) := by
  unfold Blk at h ⊢
  simp only [World.setCell, Array.getElem?_modify, if_true, h]
  simp
theorem Blk.far {w : World} {g m t : Nat} {cs : List Value} (h : Blk w g t cs) (hn : g ≠ m) (o : Nat) (v : Value) : Blk (w.setCell ⟨m, o, none⟩ v) g t cs := by
  unfold Blk at *
  rw [Below.heap_setCell _ _ _ _ hn]; exact h
theorem Blk.go {w w' : World} {B g t : Nat} {cs : List Value} (h : Blk w g t cs) (hb : Below B w w') (hB : g < B) : Blk w' g t cs := (hb.block g hB).trans h
theorem Blk.drew {w : World} {g t : Nat} {cs : List Value} (h : Blk w g t cs) (k : Nat) : Blk (w.drewN k) g t cs := h
theorem Blk.new (w : World) (t : Nat) (cs : List Value) : Blk (w.alloc (.cells cs.toArray t)) w.heap.size t cs := heap_alloc_new w _
theorem Blk.old {w : World} {g t : Nat} {cs : List Value} (h : Blk w g t cs) (o : Obj) : Blk (w.alloc o) g t cs := (Below.heap_alloc w o g h.lt).trans h
theorem Blk.row {w : World} {g t : Nat} {cs : List Value} (h : Blk w g t cs) (ds : List Value) : Blk (w.setRow g ds.toArray) g t ds := setRow_heap _ _ _ _ _ _ h
theorem Blk.rowFar {w : World} {g m t : Nat} {cs : List Value} (h : Blk w g t cs) (hn : g ≠ m) (ds : Array Value) : Blk (w.setRow m ds) g t cs := by
  unfold Blk at *
  rw [← h]
  unfold World.setRow
  simp only [Array.getElem?_modify]
  rw [if_neg (by omega)]
theorem below_row {B g : Nat} {a w : World} (h : Below B a w) (hg : B ≤ g) (cs : Array Value) : Below B a (w.setRow g cs) :=
  ⟨h.os, h.tape, h.output, by rw [size_setRow]; exact h.size, fun k hk => by
    rw [← h.block k hk]
    unfold World.setRow
    simp only [Array.getElem?_modify]
    rw [if_neg (by omega)]⟩
theorem bt {w a b : World} (h : Hid (Below w.heap.size w a)) (h2 : Below a.heap.size a b) : Hid (Below w.heap.size w b) := h.out.trans (h2.mono h.out.size)

theorem results_row_tmp {fn : Func} {p t : Tmp} {ty : TypeId} (h : fn.results = #[.cell p ty, .tmp t]) (tmps : Array Value) (w : World) (g : Nat) (cs : Array Value)
    (hp : tmps.getD p undef = .pointer (some ⟨g, 0, none⟩)) (hl : (loadVar ty ⟨g, 0, none⟩).run Tryz.prog w = .ok (.agg cs) w) :
    (results fn tmps).run Tryz.prog w = .ok (.tuple #[.agg cs, tmps.getD t undef]) w := by
  have hp' : tmps[p]?.getD undef = .pointer (some ⟨g, 0, none⟩) := by simpa using hp
  simp [results, h, hp', asAddr, hl]
theorem setc0 {w : World} {N t : Nat} {X : List Value} (h : Blk w N t X) (i : Nat) (v : Value) : w.setCell ⟨N, i, none⟩ v = w.setRow N (X.set i v).toArray := by
  rw [setCell_eq_setRow w N i X.toArray t (0, 0) v h]
  congr 1
  simp
theorem setc {w : World} {N t : Nat} {X : List Value} (h : Blk w N t X) (Y : List Value) (i : Nat) (v : Value) : (w.setRow N Y.toArray).setCell ⟨N, i, none⟩ v = w.setRow N (Y.set i v).toArray := by
  rw [setc0 (show Blk (w.setRow N Y.toArray) N t Y from setRow_heap _ _ _ _ _ _ h) i v, setRow_setRow]
theorem results_row {fn : Func} {p : Tmp} {ty : TypeId} (h : fn.results = #[.cell p ty]) (tmps : Array Value) (w : World) (g : Nat) (cs : Array Value)
    (hp : tmps.getD p undef = .pointer (some ⟨g, 0, none⟩)) (hl : (loadVar ty ⟨g, 0, none⟩).run Tryz.prog w = .ok (.agg cs) w) :
    (results fn tmps).run Tryz.prog w = .ok (.agg cs) w := by
  have hp' : tmps[p]?.getD undef = .pointer (some ⟨g, 0, none⟩) := by simpa using hp
  simp [results, h, hp', asAddr, hl]
/-- a number of package decimal: the sign, the digits' slice, the exponent -/
def nvl (b : Bool) (a : Option Addr) (n c : Nat) (e : Int) : List Value := [.bool b, .slice a n c, .int .i64 e]
theorem size_num : (Tryz.prog.info? 61).map (·.size) = some 3 := by kernel_rfl
theorem nvl_i (b : Bool) (a : Option Addr) (n c : Nat) (e : Int) : (Tryz.prog.info? 61).map (·.size) = some (nvl b a n c e).toArray.size := by rw [size_num]; rfl
theorem nvl_z (b b' : Bool) (a a' : Option Addr) (n n' c c' : Nat) (e e' : Int) : (nvl b a n c e).toArray.size = (nvl b' a' n' c' e').toArray.size := rfl
theorem nvl_one (b : Bool) (a : Option Addr) (n c : Nat) (e : Int) : (nvl b a n c e).toArray.all (·.oneCell') = true := by
  rw [Array.all_eq_true_iff_forall_mem]
  intro v hv
  have hv : v ∈ nvl b a n c e := by simpa using hv
  simp only [nvl, List.mem_cons, List.not_mem_nil, or_false] at hv
  rcases hv with rfl | rfl | rfl <;> rfl
theorem zero_num (W : World) : (zeroValue 61).run Tryz.prog W = .ok (.agg (nvl false none 0 0 0).toArray) W := by kernel_rfl
theorem load_num {w : World} {g : Nat} {b : Bool} {a : Option Addr} {n c : Nat} {e : Int} (h : Blk w g 61 (nvl b a n c e)) : (loadVar 61 ⟨g, 0, none⟩).run Tryz.prog w = .ok (.agg (nvl b a n c e).toArray) w :=
  run_loadVar_row w g 61 61 (nvl b a n c e).toArray (0, 0) _ h Tryz.underlying61 rfl (nvl_i b a n c e)
/-- blocks that hold bytes are not touched by a store of a row elsewhere -/
theorem Rb.rowFar {w : World} {a : Option Addr} {l : List UInt8} (h : Rb w a l) (g : Nat) (cs : Array Value) (hn : ∀ ad, a = some ad → ad.block ≠ g) : Rb (w.setRow g cs) a l := by
  rcases h with h | ⟨b, off, rfl, hlt, hc⟩
  · exact .inl h
  · refine .inr ⟨b, off, rfl, by rw [size_setRow]; exact hlt, fun i hi => ?_⟩
    rw [← hc i hi]
    refine World.cell?_of_block (a := ⟨b, off + i, none⟩) ?_
    have := hn _ rfl
    exact setRow_other w g b cs (by simpa using this)
end Go.Proofs.YtpankmaljafnnaaGreatDoor
