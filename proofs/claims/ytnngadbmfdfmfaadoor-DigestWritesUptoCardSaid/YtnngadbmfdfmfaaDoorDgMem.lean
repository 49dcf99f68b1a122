/-
  Helper: blocks of words and of bytes; a digest's state in memory.
-/
import Derived.Test.YtnngadbmfdfmfaaDoorDgRot
import Derived.Test.YtnngadbmfdfmfaaDoorArMem
import Derived.Laws.OwnMore
import Derived.Laws.Rows
import Derived.Laws.Tables
import Derived.Deep.MidRow
import Derived.Deep.LoopGhost
import Derived.Lib.Strings
import Derived.Lib.LazyBuf
namespace Go.Proofs.YtnngadbmfdfmfaaDoor
open Go.RowKit
set_option linter.unusedVariables false

/-- a whole block -/
def Blk (w : World) (g t : Nat) (cs : List Value) : Prop := w.heap[g]? = some (.cells cs.toArray t (0, 0))
theorem Blk.lt {w : World} {g t : Nat} {cs : List Value} (h : Blk w g t cs) : g < w.heap.size := (Array.getElem?_eq_some_iff.1 h).1
theorem Blk.cell {w : World} {g t : Nat} {cs : List Value} (h : Blk w g t cs) (i : Nat) (v : Value) (hv : cs[i]? = some v) : w.cell? ⟨g, i, none⟩ = some v := by
  unfold Blk at h
  rw [cell_of_row w g i _ t (0, 0) h]
  simpa using hv
theorem Blk.free {w : World} {g t : Nat} {cs : List Value} (h : Blk w g t cs) (i : Nat) : w.frozen? ⟨g, i, none⟩ = false := by
  unfold Blk at h
  simp [World.frozen?, h]
theorem Blk.set {w : World} {g t : Nat} {cs : List Value} (h : Blk w g t cs) (i : Nat) (v : Value) : Blk (w.setCell ⟨g, i, none⟩ v) g t (cs.set i v) := by
  unfold Blk at h ⊢
  simp only [World.setCell, Array.getElem?_modify, if_true, h]
  simp
theorem Blk.far {w : World} {g m t : Nat} {cs : List Value} (h : Blk w g t cs) (hn : g ≠ m) (o : Nat) (v : Value) : Blk (w.setCell ⟨m, o, none⟩ v) g t cs := by
  unfold Blk at *
  rw [Below.heap_setCell _ _ _ _ hn]; exact h
theorem Blk.go {w w' : World} {B g t : Nat} {cs : List Value} (h : Blk w g t cs) (hb : Below B w w') (hB : g < B) : Blk w' g t cs := (hb.block g hB).trans h
theorem Blk.drew {w : World} {g t : Nat} {cs : List Value} (h : Blk w g t cs) (k : Nat) : Blk (w.drewN k) g t cs := h
theorem Blk.new (w : World) (t : Nat) (cs : List Value) : Blk (w.alloc (.cells cs.toArray t)) w.heap.size t cs := heap_alloc_new w _
theorem Blk.old {w : World} {g t : Nat} {cs : List Value} (h : Blk w g t cs) (o : Obj) : Blk (w.alloc o) g t cs := (Below.heap_alloc w o g h.lt).trans h
theorem Blk.row {w : World} {g t : Nat} {cs : List Value} (h : Blk w g t cs) (ds : List Value) : Blk (w.setRow g ds.toArray) g t ds := setRow_heap _ _ _ _ _ _ h
theorem Blk.rowFar {w : World} {g m t : Nat} {cs : List Value} (h : Blk w g t cs) (hn : g ≠ m) (ds : Array Value) : Blk (w.setRow m ds) g t cs := by
  unfold Blk at *
  rw [← h]
  unfold World.setRow
  simp only [Array.getElem?_modify]
  rw [if_neg (by omega)]
theorem Blk.range {w : World} {g t : Nat} {cs : List Value} (h : Blk w g t cs) (o : Nat) (ds : List Value) (hd : ∀ j v, ds[j]? = some v → cs[o + j]? = some v) : w.rangeAt g o ds := fun j v hv => h.cell (o + j) v (hd j v hv)
theorem below_row {B g : Nat} {a w : World} (h : Below B a w) (hg : B ≤ g) (cs : Array Value) : Below B a (w.setRow g cs) :=
  ⟨h.os, h.tape, h.output, by rw [size_setRow]; exact h.size, fun k hk => by
    rw [← h.block k hk]
    unfold World.setRow
    simp only [Array.getElem?_modify]
    rw [if_neg (by omega)]⟩
theorem bt {w a b : World} (h : Hid (Below w.heap.size w a)) (h2 : Below a.heap.size a b) : Hid (Below w.heap.size w b) := h.out.trans (h2.mono h.out.size)

def wv (n : Nat) (F : Nat → BitVec 32) : List Value := (List.range n).map fun i => Value.int .u32 (((F i).toNat : Nat) : Int)
def bv (n : Nat) (R : Nat → UInt8) : List Value := (List.range n).map fun i => Value.int .u8 (((R i).toNat : Nat) : Int)
def upd {α : Type} (F : Nat → α) (i : Nat) (x : α) : Nat → α := fun j => if j = i then x else F j
theorem wv_len (n : Nat) (F : Nat → BitVec 32) : (wv n F).length = n := by unfold wv; simp
theorem bv_len (n : Nat) (R : Nat → UInt8) : (bv n R).length = n := by unfold bv; simp
theorem wv_get {n : Nat} (F : Nat → BitVec 32) (i : Nat) (h : i < n) : (wv n F)[i]? = some (.int .u32 (((F i).toNat : Nat) : Int)) := by
  unfold wv; rw [List.getElem?_map, List.getElem?_range h]; rfl
theorem bv_get {n : Nat} (R : Nat → UInt8) (i : Nat) (h : i < n) : (bv n R)[i]? = some (.int .u8 (((R i).toNat : Nat) : Int)) := by
  unfold bv; rw [List.getElem?_map, List.getElem?_range h]; rfl
theorem wv_congr {n : Nat} {F G : Nat → BitVec 32} (h : ∀ i, i < n → F i = G i) : wv n F = wv n G := by
  unfold wv
  apply List.map_congr_left
  intro i hi
  rw [h i (by simpa using hi)]
theorem bv_congr {n : Nat} {F G : Nat → UInt8} (h : ∀ i, i < n → F i = G i) : bv n F = bv n G := by
  unfold bv
  apply List.map_congr_left
  intro i hi
  rw [h i (by simpa using hi)]
theorem wv_set (n : Nat) (F : Nat → BitVec 32) (i : Nat) (x : BitVec 32) : (wv n F).set i (.int .u32 ((x.toNat : Nat) : Int)) = wv n (upd F i x) := by
  apply List.ext_getElem?
  intro j
  by_cases hj : j < n
  · rw [List.getElem?_set, wv_len, wv_get _ j hj, wv_get _ j hj]
    unfold upd
    by_cases e : i = j
    · subst e; rw [if_pos rfl, if_pos hj, if_pos rfl]
    · rw [if_neg e, if_neg (by omega)]
  · rw [List.getElem?_eq_none (by rw [List.length_set, wv_len]; omega), List.getElem?_eq_none (by rw [wv_len]; omega)]
theorem wv_one (n : Nat) (F : Nat → BitVec 32) : ∀ v ∈ wv n F, v.oneCell' = true := by
  intro v hv
  obtain ⟨c, _, rfl⟩ := List.mem_map.1 hv
  rfl
theorem bv_one (n : Nat) (F : Nat → UInt8) : ∀ v ∈ bv n F, v.oneCell' = true := by
  intro v hv
  obtain ⟨c, _, rfl⟩ := List.mem_map.1 hv
  rfl
/-- the state of a digest -/
def hv (A : Nat → BitVec 32) (R : Nat → UInt8) (n : Nat) : List Value := wv 8 A ++ (bv 64 R ++ [.int .u64 (n : Int)])
theorem hv_len (A : Nat → BitVec 32) (R : Nat → UInt8) (n : Nat) : (hv A R n).length = 73 := by unfold hv; simp [wv_len, bv_len]
theorem hv_w (A : Nat → BitVec 32) (R : Nat → UInt8) (n i : Nat) (h : i < 8) : (hv A R n)[i]? = some (.int .u32 (((A i).toNat : Nat) : Int)) := by
  unfold hv; rw [List.getElem?_append_left (by rw [wv_len]; exact h)]; exact wv_get A i h
theorem hv_b (A : Nat → BitVec 32) (R : Nat → UInt8) (n j : Nat) (h : j < 64) : (hv A R n)[8 + j]? = some (.int .u8 (((R j).toNat : Nat) : Int)) := by
  unfold hv
  rw [List.getElem?_append_right (by rw [wv_len]; omega), wv_len, show 8 + j - 8 = j by omega, List.getElem?_append_left (by rw [bv_len]; exact h)]
  exact bv_get R j h
theorem hv_n (A : Nat → BitVec 32) (R : Nat → UInt8) (n : Nat) : (hv A R n)[72]? = some (.int .u64 (n : Int)) := by
  unfold hv
  rw [List.getElem?_append_right (by rw [wv_len]; omega), wv_len, List.getElem?_append_right (by rw [bv_len]; omega), bv_len]
  rfl
theorem hv_setw (A : Nat → BitVec 32) (R : Nat → UInt8) (n i : Nat) (h : i < 8) (x : BitVec 32) : (hv A R n).set i (.int .u32 ((x.toNat : Nat) : Int)) = hv (upd A i x) R n := by
  unfold hv; rw [List.set_append_left _ _ (by rw [wv_len]; exact h), wv_set]
theorem hv_setn (A : Nat → BitVec 32) (R : Nat → UInt8) (n m : Nat) : (hv A R n).set 72 (.int .u64 (m : Int)) = hv A R m := by
  unfold hv
  rw [List.set_append_right _ _ (by rw [wv_len]; omega), wv_len, List.set_append_right _ _ (by rw [bv_len]; omega), bv_len]
  rfl
theorem hv_one (A : Nat → BitVec 32) (R : Nat → UInt8) (n : Nat) : ∀ v ∈ hv A R n, v.oneCell' = true := by
  intro v h
  unfold hv at h
  rcases List.mem_append.1 h with h | h
  · exact wv_one _ _ _ h
  · rcases List.mem_append.1 h with h | h
    · exact bv_one _ _ _ h
    · obtain rfl := List.mem_singleton.1 h; rfl
theorem hv_congr {A B : Nat → BitVec 32} {R S : Nat → UInt8} {n : Nat} (h : ∀ i, i < 8 → A i = B i) (h2 : ∀ j, j < 64 → R j = S j) : hv A R n = hv B S n := by
  unfold hv; rw [wv_congr h, bv_congr h2]
theorem arr_all {cs : List Value} (h : ∀ v ∈ cs, v.oneCell' = true) : cs.toArray.all (·.oneCell') = true := all_oneCell_toArray h
theorem size8 : (Tryd.prog.info? 31).map (·.size) = some 8 := by kernel_rfl
theorem size64 : (Tryd.prog.info? 62).map (·.size) = some 64 := by kernel_rfl
theorem size64b : (Tryd.prog.info? 32).map (·.size) = some 64 := by kernel_rfl
theorem size73 : (Tryd.prog.info? 35).map (·.size) = some 73 := by kernel_rfl
theorem i8 (F : Nat → BitVec 32) : (Tryd.prog.info? 31).map (·.size) = some (wv 8 F).toArray.size := by rw [size8]; simp [wv_len]
theorem i8l (F : Nat → BitVec 32) : (Tryd.prog.info? 31).map (·.size) = some (wv 8 F).length := by rw [size8]; simp [wv_len]
theorem i64 (F : Nat → BitVec 32) : (Tryd.prog.info? 62).map (·.size) = some (wv 64 F).toArray.size := by rw [size64]; simp [wv_len]
theorem i64b (F : Nat → UInt8) : (Tryd.prog.info? 32).map (·.size) = some (bv 64 F).toArray.size := by rw [size64b]; simp [bv_len]
theorem i64bl (F : Nat → UInt8) : (Tryd.prog.info? 32).map (·.size) = some (bv 64 F).length := by rw [size64b]; simp [bv_len]
theorem i73 (A : Nat → BitVec 32) (R : Nat → UInt8) (n : Nat) : (Tryd.prog.info? 35).map (·.size) = some (hv A R n).toArray.size := by rw [size73]; simp [hv_len]
def zw : Nat → BitVec 32 := fun _ => 0
def zb : Nat → UInt8 := fun _ => 0
set_option maxRecDepth 100000 in
theorem zero8 (W : World) : (zeroValue 31).run Tryd.prog W = .ok (.agg (wv 8 zw).toArray) W := by kernel_rfl
set_option maxRecDepth 100000 in
theorem zero64 (W : World) : (zeroValue 62).run Tryd.prog W = .ok (.agg (wv 64 zw).toArray) W := by kernel_rfl
set_option maxRecDepth 100000 in
theorem zero73 (W : World) : (zeroValue 35).run Tryd.prog W = .ok (.agg (hv zw zb 0).toArray) W := by kernel_rfl
theorem lt8 {k : Nat} (h : k < 8) : k = 0 ∨ k = 1 ∨ k = 2 ∨ k = 3 ∨ k = 4 ∨ k = 5 ∨ k = 6 ∨ k = 7 := by omega
theorem idx8 (F : Nat → BitVec 32) (k : Nat) (hk : k < 8) (w : World) : (Instr.index 31 (.agg (wv 8 F).toArray) (.int .i64 (k : Int))).run Tryd.prog w = .ok (.int .u32 (((F k).toNat : Nat) : Int)) w := by
  rcases lt8 hk with rfl | rfl | rfl | rfl | rfl | rfl | rfl | rfl <;> kernel_rfl
theorem alen64b : Tryd.prog.arrayLen 32 = 64 := by kernel_rfl
theorem elem64b : Tryd.prog.elem 32 = 5 := by kernel_rfl
theorem size1 (w : World) : (sizeOf 5).run Tryd.prog w = .ok 1 w := by kernel_rfl
/-- a part of an array of bytes -/
theorem sl_lh (w : World) (b o l h : Nat) (L H : Int) (hL : L = (l : Int)) (hH : H = (h : Int)) (h1 : l ≤ h) (h2 : h ≤ 64) (h3 : l < 64) :
    (Instr.sliceAt 32 (.pointer (some ⟨b, o, none⟩)) (some (.int .i64 L)) (some (.int .i64 H)) none).run Tryd.prog w = .ok (.slice (some ⟨b, o + l, none⟩) (h - l) (64 - l)) w := by
  subst hL hH
  rw [run_sliceAt_array_lh w 32 ⟨b, o, none⟩ (by rw [alen64b, elem64b]; exact Tryd.underlying32) .i64 .i64 l h (by omega) (by omega) (by rw [alen64b]; omega), elem64b, size1, alen64b]
  simp only [Result.andThen_ok, slicedAt, Int.toNat_natCast, Nat.mul_one]
  rw [if_neg (by omega), Addr.add_mid]
theorem sl_l (w : World) (b o l : Nat) (L : Int) (hL : L = (l : Int)) (h3 : l < 64) :
    (Instr.sliceAt 32 (.pointer (some ⟨b, o, none⟩)) (some (.int .i64 L)) none none).run Tryd.prog w = .ok (.slice (some ⟨b, o + l, none⟩) (64 - l) (64 - l)) w := by
  subst hL
  rw [run_sliceAt_array_l w 32 ⟨b, o, none⟩ (by rw [alen64b, elem64b]; exact Tryd.underlying32) .i64 l (by omega) (by rw [alen64b]; omega), elem64b, size1, alen64b]
  simp only [Result.andThen_ok, slicedAt, Int.toNat_natCast, Nat.mul_one]
  rw [if_neg (by omega), Addr.add_mid]
end Go.Proofs.YtnngadbmfdfmfaaDoor
