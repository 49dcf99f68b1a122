/-
  Helper: the walk of addBlock.
-/
import Derived.Test.YtnngadbmfdfmfaaDoorDgSch
namespace Go.Proofs.YtnngadbmfdfmfaaDoor
open Go.RowKit
set_option linter.unusedVariables false

/-- a table's block -/
def Tb (w : World) (g : Nat) (cs : List Value) : Prop := ∃ t fr, w.heap[g]? = some (.cells cs.toArray t fr)
theorem Tb.lt {w : World} {g : Nat} {cs : List Value} (h : Tb w g cs) : g < w.heap.size := by obtain ⟨t, fr, h⟩ := h; exact (Array.getElem?_eq_some_iff.1 h).1
theorem Tb.of {w w' : World} {g : Nat} {cs : List Value} (h : Tb w g cs) (e : w'.heap[g]? = w.heap[g]?) : Tb w' g cs := by obtain ⟨t, fr, h⟩ := h; exact ⟨t, fr, e.trans h⟩
theorem Tb.go {w w' : World} {B g : Nat} {cs : List Value} (h : Tb w g cs) (hb : Below B w w') (hB : g < B) : Tb w' g cs := h.of (hb.block g hB)
theorem Tb.old {w : World} {g : Nat} {cs : List Value} (h : Tb w g cs) (o : Obj) : Tb (w.alloc o) g cs := h.of (Below.heap_alloc w o g h.lt)
theorem Tb.far {w : World} {g m : Nat} {cs : List Value} (h : Tb w g cs) (hn : g ≠ m) (o : Nat) (v : Value) : Tb (w.setCell ⟨m, o, none⟩ v) g cs := h.of (Below.heap_setCell _ _ _ _ hn)
theorem Tb.rowFar {w : World} {g m : Nat} {cs : List Value} (h : Tb w g cs) (hn : g ≠ m) (ds : Array Value) : Tb (w.setRow m ds) g cs := h.of (setRow_other w m g ds (by omega))
theorem Tb.cell {w : World} {g : Nat} {cs : List Value} (h : Tb w g cs) (i : Nat) (v : Value) (hv : cs[i]? = some v) : w.cell? ⟨g, i, none⟩ = some v := by
  obtain ⟨t, fr, h⟩ := h
  rw [cell_of_row w g i _ t fr h]
  simpa using hv
/-- the tables that the walks read -/
def Tabs (w : World) : Prop := 2 ≤ w.heap.size ∧ Tb w 0 (wv 8 fs) ∧ Tb w 1 (wv 64 kc)
theorem Tabs.below {B : Nat} {w w' : World} (h : Tabs w) (hb : Below B w w') (hB : 2 ≤ B) : Tabs w' := ⟨Nat.le_trans h.1 hb.size, h.2.1.go hb (by omega), h.2.2.go hb (by omega)⟩
theorem Tabs.go {w w' : World} (h : Tabs w) (hb : Below w.heap.size w w') : Tabs w' := h.below hb h.1
theorem Tabs.drewN {w : World} (h : Tabs w) (k : Nat) : Tabs (w.drewN k) := h
/-- all blocks but one are left alone -/
structure Spr (b : Nat) (w w' : World) : Prop where
  os : w'.os = w.os
  tape : w'.tape = w.tape
  output : w'.output = w.output
  size : w.heap.size ≤ w'.heap.size
  block : ∀ k, k < w.heap.size → k ≠ b → w'.heap[k]? = w.heap[k]?
theorem Spr.ofBelow {b : Nat} {w w' : World} (h : Below w.heap.size w w') : Spr b w w' := ⟨h.os, h.tape, h.output, h.size, fun k hk _ => h.block k hk⟩
theorem Spr.below {b B : Nat} {w w' : World} (h : Spr b w w') (hb : B ≤ b) (hB : B ≤ w.heap.size) : Below B w w' := ⟨h.os, h.tape, h.output, h.size, fun k hk => h.block k (by omega) (by omega)⟩
theorem Spr.trans {b : Nat} {w w1 w2 : World} (h : Spr b w w1) (k : Spr b w1 w2) : Spr b w w2 :=
  ⟨k.os.trans h.os, k.tape.trans h.tape, k.output.trans h.output, Nat.le_trans h.size k.size, fun i hi hn => (k.block i (Nat.lt_of_lt_of_le hi h.size) hn).trans (h.block i hi hn)⟩
theorem Spr.drewN {b : Nat} {w w' : World} (h : Spr b w w') (q : Nat) : Spr b w (w'.drewN q) := ⟨h.os, h.tape, h.output, h.size, h.block⟩
theorem Spr.drew {b : Nat} {w w' : World} (h : Spr b w w') : Spr b w w'.drew := ⟨h.os, h.tape, h.output, h.size, h.block⟩
theorem Spr.far {b : Nat} {w w' : World} (h : Spr b w w') (g i : Nat) (v : Value) (hg : w.heap.size ≤ g ∨ g = b) : Spr b w (w'.setCell ⟨g, i, none⟩ v) :=
  ⟨h.os, h.tape, h.output, by simp [World.setCell]; exact h.size, fun k hk hn => by
    rw [Below.heap_setCell _ _ _ _ (show k ≠ (⟨g, i, none⟩ : Addr).block by show k ≠ g; omega)]; exact h.block k hk hn⟩
theorem Spr.row {b : Nat} {w w' : World} (h : Spr b w w') (g : Nat) (cs : Array Value) (hg : w.heap.size ≤ g ∨ g = b) : Spr b w (w'.setRow g cs) :=
  ⟨h.os, h.tape, h.output, by rw [size_setRow]; exact h.size, fun k hk hn => by
    rw [setRow_other w' g k cs (by omega)]; exact h.block k hk hn⟩
theorem Spr.alloc {b : Nat} {w w' : World} (h : Spr b w w') (o : Obj) : Spr b w (w'.alloc o) :=
  ⟨h.os, h.tape, h.output, by have := h.size; simp; omega, fun k hk hn => by
    rw [Below.heap_alloc _ _ _ (Nat.lt_of_lt_of_le hk h.size)]; exact h.block k hk hn⟩
/-- what a block adds -/
def fa (A : Nat → BitVec 32) : Nat → BitVec 32 := fun i => fs i + A i
def addF (R : Nat → UInt8) (A : Nat → BitVec 32) : Nat → BitVec 32 := fun i => A i + rnd R (fa A) 64 i
def AddP (b : Nat) (A : Nat → BitVec 32) (R : Nat → UInt8) (n : Nat) (w : World) (e : Ending) (w' : World) : Prop :=
  e = .returned (.tuple #[]) ∧ Blk w' b 35 (hv (addF R A) R n) ∧ Spr b w w'
/-- the blocks of the walk -/
def SA (N b : Nat) (w wr : World) (A : Nat → BitVec 32) (R : Nat → UInt8) (n : Nat) (F : Nat → BitVec 32) : Prop :=
  Blk wr b 35 (hv A R n) ∧ Blk wr N 62 (wv 64 (wd R)) ∧ Blk wr (N + 1) 31 (wv 8 F) ∧ Spr b w wr ∧ Tabs wr ∧ b < w.heap.size ∧ w.heap.size ≤ N
theorem SA.drew {N b : Nat} {w wr : World} {A : Nat → BitVec 32} {R : Nat → UInt8} {n : Nat} {F : Nat → BitVec 32} (h : SA N b w wr A R n F) (q : Nat) : SA N b w (wr.drewN q) A R n F := ⟨h.1, h.2.1, h.2.2.1, h.2.2.2.1.drewN q, h.2.2.2.2.1.drewN q, h.2.2.2.2.2⟩
theorem SA.drew1 {N b : Nat} {w wr : World} {A : Nat → BitVec 32} {R : Nat → UInt8} {n : Nat} {F : Nat → BitVec 32} (h : SA N b w wr A R n F) : SA N b w wr.drew A R n F := ⟨h.1, h.2.1, h.2.2.1, h.2.2.2.1.drew, h.2.2.2.2.1, h.2.2.2.2.2⟩
theorem Tabs.far {w : World} (h : Tabs w) (g i : Nat) (v : Value) (hg : 2 ≤ g) : Tabs (w.setCell ⟨g, i, none⟩ v) := ⟨by simpa [World.setCell] using h.1, h.2.1.far (by omega) _ _, h.2.2.far (by omega) _ _⟩
theorem Tabs.row {w : World} (h : Tabs w) (g : Nat) (cs : Array Value) (hg : 2 ≤ g) : Tabs (w.setRow g cs) := ⟨by rw [size_setRow]; exact h.1, h.2.1.rowFar (by omega) _, h.2.2.rowFar (by omega) _⟩
theorem SA.set {N b : Nat} {w wr : World} {A : Nat → BitVec 32} {R : Nat → UInt8} {n : Nat} {F : Nat → BitVec 32} (h : SA N b w wr A R n F) (h2 : 2 ≤ b) (i : Nat) (x : BitVec 32) (z : Int) (hz : z = ((x.toNat : Nat) : Int)) : SA N b w (wr.setCell ⟨N + 1, i, none⟩ (.int .u32 z)) A R n (upd F i x) := by
  have h5 := h.2.2.2.2.2
  exact ⟨h.1.far (by omega) _ _, h.2.1.far (by omega) _ _, by rw [hz, ← wv_set]; exact h.2.2.1.set _ _, h.2.2.2.1.far _ _ _ (.inl (by omega)), h.2.2.2.2.1.far _ _ _ (by omega), h5⟩
theorem SA.put {N b : Nat} {w wr : World} {A : Nat → BitVec 32} {R : Nat → UInt8} {n : Nat} {F : Nat → BitVec 32} (h : SA N b w wr A R n F) (h2 : 2 ≤ b) (i : Nat) (hi : i < 8) (x : BitVec 32) (z : Int) (hz : z = ((x.toNat : Nat) : Int)) : SA N b w (wr.setCell ⟨b, i, none⟩ (.int .u32 z)) (upd A i x) R n F := by
  have h5 := h.2.2.2.2.2
  exact ⟨by rw [hz, ← hv_setw A R n i hi]; exact h.1.set _ _, h.2.1.far (by omega) _ _, h.2.2.1.far (by omega) _ _, h.2.2.2.1.far _ _ _ (.inr rfl), h.2.2.2.2.1.far _ _ _ (by omega), h5⟩
theorem SA.setAll {N b : Nat} {w wr : World} {A : Nat → BitVec 32} {R : Nat → UInt8} {n : Nat} {F : Nat → BitVec 32} (h : SA N b w wr A R n F) (h2 : 2 ≤ b) (G : Nat → BitVec 32) : SA N b w (wr.setRow (N + 1) (wv 8 G).toArray) A R n G := by
  have h5 := h.2.2.2.2.2
  exact ⟨h.1.rowFar (by omega) _, h.2.1.rowFar (by omega) _, h.2.2.1.row _, h.2.2.2.1.row _ _ (.inl (by omega)), h.2.2.2.2.1.row _ _ (by omega), h5⟩
/-- a turn in a region that draws its order -/
def okK (k : Int) : Bool := decide (bits .and .u64 (IntKind.u64.wrap k) 31 = ((32 - (-k).toNat : Nat) : Int)) && decide ((-k).toNat ≤ 32)
theorem quietR {w : World} {m : Nat} (x : BitVec 32) (k : Int) (hk : okK k = true) : Calls Tryd.prog 24 #[.int .u32 ((x.toNat : Nat) : Int), .int .i64 k] (w.drewN m) fun e w'' => e = .returned (.int .u32 (((rr x (-k).toNat).toNat : Nat) : Int)) ∧ ∃ m', w'' = w.drewN m' := by
  unfold okK at hk
  simp only [Bool.and_eq_true, decide_eq_true_eq] at hk
  refine (rotl_any x k (32 - (-k).toNat) hk.1 (by omega) (w.drewN m)).mono ?_
  rintro e w'' ⟨h1, rfl⟩
  refine ⟨?_, m, rfl⟩
  have h2 := hk.2
  rw [h1, show 32 - (32 - (-k).toNat) = (-k).toNat by omega]
  unfold rr
  rw [BitVec.or_comm]
theorem x_S1 (x : BitVec 32) : bits .xor .u32 (bits .xor .u32 (((rr x 6).toNat : Nat) : Int) (((rr x 11).toNat : Nat) : Int)) (((rr x 25).toNat : Nat) : Int) = (((S1 x).toNat : Nat) : Int) := by
  rw [x_xor, x_xor]; rfl
theorem x_S0 (x : BitVec 32) : bits .xor .u32 (bits .xor .u32 (((rr x 2).toNat : Nat) : Int) (((rr x 13).toNat : Nat) : Int)) (((rr x 22).toNat : Nat) : Int) = (((S0 x).toNat : Nat) : Int) := by
  rw [x_xor, x_xor]; rfl
theorem x_ch (x y z : BitVec 32) : bits .xor .u32 (bits .and .u32 ((x.toNat : Nat) : Int) ((y.toNat : Nat) : Int)) (bits .and .u32 (bits .xor .u32 4294967295 ((x.toNat : Nat) : Int)) ((z.toNat : Nat) : Int)) = (((ch x y z).toNat : Nat) : Int) := by
  rw [x_not, x_and, x_and, x_xor]; rfl
theorem x_mj (x y z : BitVec 32) : bits .xor .u32 (bits .xor .u32 (bits .and .u32 ((x.toNat : Nat) : Int) ((y.toNat : Nat) : Int)) (bits .and .u32 ((x.toNat : Nat) : Int) ((z.toNat : Nat) : Int))) (bits .and .u32 ((y.toNat : Nat) : Int) ((z.toNat : Nat) : Int)) = (((mj x y z).toNat : Nat) : Int) := by
  rw [x_and, x_and, x_and, x_xor, x_xor]; rfl
theorem SA.c8 {N b : Nat} {w wr : World} {A : Nat → BitVec 32} {R : Nat → UInt8} {n : Nat} {F : Nat → BitVec 32} (h : SA N b w wr A R n F) (i : Nat) (hi : i < 8) : wr.cell? ⟨N + 1, i, none⟩ = some (.int .u32 (((F i).toNat : Nat) : Int)) := h.2.2.1.cell i _ (wv_get F i hi)
theorem SA.ck {N b : Nat} {w wr : World} {A : Nat → BitVec 32} {R : Nat → UInt8} {n : Nat} {F : Nat → BitVec 32} (h : SA N b w wr A R n F) (k : Nat) (hk : k < 64) : wr.cell? ⟨1, k, none⟩ = some (.int .u32 (((kc k).toNat : Nat) : Int)) := h.2.2.2.2.1.2.2.cell k _ (wv_get kc k hk)
theorem SA.cw {N b : Nat} {w wr : World} {A : Nat → BitVec 32} {R : Nat → UInt8} {n : Nat} {F : Nat → BitVec 32} (h : SA N b w wr A R n F) (k : Nat) (hk : k < 64) : wr.cell? ⟨N, k, none⟩ = some (.int .u32 (((wd R k).toNat : Nat) : Int)) := h.2.1.cell k _ (wv_get (wd R) k hk)
theorem SA.congr {N b : Nat} {w wr : World} {A : Nat → BitVec 32} {R : Nat → UInt8} {n : Nat} {F G : Nat → BitVec 32} (h : SA N b w wr A R n F) (hg : ∀ i, i < 8 → F i = G i) : SA N b w wr A R n G := ⟨h.1, h.2.1, by rw [← wv_congr hg]; exact h.2.2.1, h.2.2.2⟩
theorem SA.set8 {N b : Nat} {w wr : World} {A : Nat → BitVec 32} {R : Nat → UInt8} {n : Nat} {F : Nat → BitVec 32} (h : SA N b w wr A R n F) (h2 : 2 ≤ b) (G : Nat → BitVec 32) (z0 z1 z2 z3 z4 z5 z6 z7 : Int)
    (e0 : z0 = (((G 0).toNat : Nat) : Int)) (e1 : z1 = (((G 1).toNat : Nat) : Int)) (e2 : z2 = (((G 2).toNat : Nat) : Int)) (e3 : z3 = (((G 3).toNat : Nat) : Int)) (e4 : z4 = (((G 4).toNat : Nat) : Int)) (e5 : z5 = (((G 5).toNat : Nat) : Int)) (e6 : z6 = (((G 6).toNat : Nat) : Int)) (e7 : z7 = (((G 7).toNat : Nat) : Int)) :
    SA N b w ((((((((wr.setCell ⟨N + 1, 0, none⟩ (.int .u32 z0)).setCell ⟨N + 1, 1, none⟩ (.int .u32 z1)).setCell ⟨N + 1, 2, none⟩ (.int .u32 z2)).setCell ⟨N + 1, 3, none⟩ (.int .u32 z3)).setCell ⟨N + 1, 4, none⟩ (.int .u32 z4)).setCell ⟨N + 1, 5, none⟩ (.int .u32 z5)).setCell ⟨N + 1, 6, none⟩ (.int .u32 z6)).setCell ⟨N + 1, 7, none⟩ (.int .u32 z7)) A R n G :=
  ((((((((h.set h2 0 _ _ e0).set h2 1 _ _ e1).set h2 2 _ _ e2).set h2 3 _ _ e3).set h2 4 _ _ e4).set h2 5 _ _ e5).set h2 6 _ _ e6).set h2 7 _ _ e7).congr fun i hi => by
    rcases lt8 hi with rfl | rfl | rfl | rfl | rfl | rfl | rfl | rfl <;> rfl
theorem x_t2 (a c x y z : BitVec 32) : (((a.toNat : Nat) : Int) + (((c.toNat : Nat) : Int) + bits .xor .u32 (bits .xor .u32 (bits .and .u32 ((x.toNat : Nat) : Int) ((y.toNat : Nat) : Int)) (bits .and .u32 ((x.toNat : Nat) : Int) ((z.toNat : Nat) : Int))) (bits .and .u32 ((y.toNat : Nat) : Int) ((z.toNat : Nat) : Int)))) % 4294967296 = (((a + (c + mj x y z)).toNat : Nat) : Int) := by
  rw [x_mj, BitVec.toNat_add, BitVec.toNat_add]; omega
/-- the words with what is added -/
def plus (A v : Nat → BitVec 32) (k : Nat) : Nat → BitVec 32 := fun i => if i < k then A i + v i else A i
theorem plus_step (A v : Nat → BitVec 32) (k : Nat) : upd (plus A v k) k (plus A v k k + v k) = plus A v (k + 1) := by
  funext i; unfold upd plus
  by_cases h : i = k
  · subst h; rw [if_pos rfl, if_neg (by omega), if_pos (by omega)]
  · rw [if_neg h]; by_cases g : i < k
    · rw [if_pos g, if_pos (by omega)]
    · rw [if_neg g, if_neg (by omega)]
theorem plus_zero (A v : Nat → BitVec 32) : plus A v 0 = A := by funext i; unfold plus; rw [if_neg (by omega)]
theorem SA.ca {N b : Nat} {w wr : World} {A : Nat → BitVec 32} {R : Nat → UInt8} {n : Nat} {F : Nat → BitVec 32} (h : SA N b w wr A R n F) (i : Nat) (hi : i < 8) : wr.cell? ⟨b, i, none⟩ = some (.int .u32 (((A i).toNat : Nat) : Int)) := h.1.cell i _ (hv_w A R n i hi)
/-- the first words, with what has been added -/
def ini (A : Nat → BitVec 32) (k : Nat) : Nat → BitVec 32 := fun i => if i < k then fs i + A i else fs i
theorem ini_step (A : Nat → BitVec 32) (k : Nat) : upd (ini A k) k (ini A k k + A k) = ini A (k + 1) := by
  funext i; unfold upd ini
  by_cases h : i = k
  · subst h; rw [if_pos rfl, if_neg (by omega), if_pos (by omega)]
  · rw [if_neg h]; by_cases g : i < k
    · rw [if_pos g, if_pos (by omega)]
    · rw [if_neg g, if_neg (by omega)]
theorem ini_zero (A : Nat → BitVec 32) : ini A 0 = fs := by funext i; unfold ini; rw [if_neg (by omega)]
set_option maxRecDepth 100000 in
set_option maxHeartbeats 4000000 in
theorem addBlock_any (A : Nat → BitVec 32) (R : Nat → UInt8) (n b : Nat) (w : World) (hT : Tabs w) (hb : Blk w b 35 (hv A R n)) (h2 : 2 ≤ b) :
    Calls Tryd.prog 22 #[.pointer (some ⟨b, 0, none⟩)] w (AddP b A R n w) := by
  have hz1 := zero8
  have hz2 := zero64
  have hR : Hid (w.rangeAt b 8 (bv 64 R)) := hb.range 8 _ fun j v hj => by
    have hlt : j < 64 := by have := (List.getElem?_eq_some_iff.1 hj).1; rwa [bv_len] at this
    rw [bv_get R j hlt] at hj
    rw [hv_b A R n j hlt]; exact hj
  have hFi : Hid (∀ w', Blk w' b 35 (hv (addF R A) R n) → Spr b w w' → AddP b A R n w (.returned (.tuple #[])) w') := fun w' h1 h2 => ⟨rfl, h1, h2⟩
  generalize AddP b A R n w = Po at *
  go_enter Tryd.func22, Tryd.ntmps22
  go_wp2_with (refine wpList_load_mid rfl 32 _ rfl b 8 rfl (bv 64 R) _ hR.out Tryd.underlying32 rfl (i64bl R) ?_)
  refine (schedule_any R w).mono ?_
  rintro e w1 ⟨rfl, hb1⟩
  have hblt := hb.lt
  have hS1 : Hid (Spr b w w1) := Spr.ofBelow hb1
  have hT1 := Lib.hid (hT.go hb1)
  have hB1 : Hid (Blk w1 b 35 (hv A R n)) := hb.go hb1 hblt
  have hN0 : w.heap.size ≤ w1.heap.size := hb1.size
  obtain ⟨N, hN⟩ : ∃ N, w1.heap.size = N := ⟨_, rfl⟩
  have hS0 : Hid (SA N b w ((((w1.alloc (.cells (wv 64 zw).toArray 62)).setRow N (wv 64 (wd R)).toArray).alloc (.cells (wv 8 zw).toArray 31)).setRow (N + 1) (wv 8 fs).toArray) A R n fs) := by
    have e1 : ((w1.alloc (.cells (wv 64 zw).toArray 62)).setRow N (wv 64 (wd R)).toArray).heap.size = N + 1 := by rw [size_setRow]; simp [hN]
    have k1 := Blk.new w1 62 (wv 64 zw)
    rw [hN] at k1
    have k2 := k1.row (wv 64 (wd R))
    have k3 := Blk.new ((w1.alloc (.cells (wv 64 zw).toArray 62)).setRow N (wv 64 (wd R)).toArray) 31 (wv 8 zw)
    rw [e1] at k3
    have k4 := k3.row (wv 8 fs)
    have f1 : ∀ {g t : Nat} {cs : List Value}, Blk w1 g t cs → Blk ((((w1.alloc (.cells (wv 64 zw).toArray 62)).setRow N (wv 64 (wd R)).toArray).alloc (.cells (wv 8 zw).toArray 31)).setRow (N + 1) (wv 8 fs).toArray) g t cs := fun {g t cs} h => by
      have hl := h.lt
      rw [hN] at hl
      exact (((h.old _).rowFar (by omega) _).old _).rowFar (by omega) _
    have f2 : ∀ {g : Nat} {cs : List Value}, Tb w1 g cs → Tb ((((w1.alloc (.cells (wv 64 zw).toArray 62)).setRow N (wv 64 (wd R)).toArray).alloc (.cells (wv 8 zw).toArray 31)).setRow (N + 1) (wv 8 fs).toArray) g cs := fun {g cs} h => by
      have hl := h.lt
      rw [hN] at hl
      exact (((h.old _).rowFar (by omega) _).old _).rowFar (by omega) _
    exact ⟨f1 hB1.out, (k2.old _).rowFar (by omega) _, k4, ((((hS1.out.alloc _).row N _ (.inl (by omega))).alloc _).row (N + 1) _ (.inl (by omega))), ⟨by rw [size_setRow]; simp, f2 hT1.out.2.1, f2 hT1.out.2.2⟩, hblt, by omega⟩
  have hA : Hid (Blk (w1.alloc (.cells (wv 64 zw).toArray 62)) N 62 (wv 64 zw)) := by rw [← hN]; exact Blk.new w1 _ _
  have hG0 : Tb ((w1.alloc (.cells (wv 64 zw).toArray 62)).setRow N (wv 64 (wd R)).toArray) 0 (wv 8 fs) := by
    have := hT1.out.1
    exact (hT1.out.2.1.old _).rowFar (by omega) _
  obtain ⟨gt0, gfr0, hG1⟩ := hG0
  have hG := Lib.hid hG1
  clear hG1
  have hC : Hid (Blk (((w1.alloc (.cells (wv 64 zw).toArray 62)).setRow N (wv 64 (wd R)).toArray).alloc (.cells (wv 8 zw).toArray 31)) (N + 1) 31 (wv 8 zw)) := by
    have := Blk.new ((w1.alloc (.cells (wv 64 zw).toArray 62)).setRow N (wv 64 (wd R)).toArray) 31 (wv 8 zw)
    rw [show ((w1.alloc (.cells (wv 64 zw).toArray 62)).setRow N (wv 64 (wd R)).toArray).heap.size = N + 1 by rw [size_setRow]; simp [hN]] at this
    exact this
  have hRA : Hid (∀ {wr : World} {F : Nat → BitVec 32}, SA N b w wr A R n F → wr.rangeAt b 0 (wv 8 A)) := fun {wr F} h => h.1.range 0 _ fun j v hj => by
    have hlt : j < 8 := by have := (List.getElem?_eq_some_iff.1 hj).1; rwa [wv_len] at this
    rw [wv_get A j hlt] at hj
    rw [Nat.zero_add, hv_w A R n j hlt]; exact hj
  have hes : ((w1.alloc (.cells (wv 64 zw).toArray 62)).setRow N (wv 64 (wd R)).toArray).heap.size = N + 1 := by rw [size_setRow]; simp [hN]
  have i1 := Lib.hid (i64 (wd R))
  have i2 := Lib.hid (i8 fs)
  have o1 := Lib.hid (arr_all (wv_one 64 (wd R)))
  have o2 := Lib.hid (arr_all (wv_one 8 fs))
  have z1 : Hid ((wv 64 zw).toArray.size = (wv 64 (wd R)).toArray.size) := by show _ = _; simp [wv_len]
  have z2 : Hid ((wv 8 zw).toArray.size = (wv 8 fs).toArray.size) := by show _ = _; simp [wv_len]
  clear hb hb1 hR hT hN0
  go_wp2_with (first
    | (refine wpList_store_row rfl 62 (.tmp 2) (.tmp 19) rfl N _ rfl rfl 62 _ hA.out i1.out z1.out o1.out ?_)
    | (refine wpList_load_row rfl 31 (.global 0) rfl 0 rfl _ _ _ _ hG.out Tryd.underlying31 rfl i2.out ?_)
    | (refine wpList_store_row rfl 31 (.tmp 3) (.tmp 20) rfl (N + 1) _ rfl rfl 31 _ hC.out i2.out z2.out o2.out ?_)
    | (refine wpList_load_mid rfl 31 (.tmp 23) rfl b 0 rfl (wv 8 A) _ (hRA.out hS0.out) Tryd.underlying31 rfl (i8l A) ?_))
  have hini := Lib.hid (ini_zero A)
  generalize ((((w1.alloc (.cells (wv 64 zw).toArray 62)).setRow N (wv 64 (wd R)).toArray).alloc (.cells (wv 8 zw).toArray 31)).setRow (N + 1) (wv 8 fs).toArray) = wb at *
  rw [← hini.out] at hS0
  clear hz1 hz2 hT1 hB1 hN hA hG hC hes hRA i1 i2 o1 o2 z1 z2 hS1
  go_loopw [25] (fun i wr => ∃ k : Nat, k ≤ 8 ∧ i = .int .i64 k ∧ Hid (SA N b w wr A R n (ini A k))) (fun i _ => 8 - (intOf i).toNat)
  case atStart => exact ⟨0, by omega, rfl, hS0⟩
  case round =>
    obtain ⟨k, hk, rfl, hS⟩ := hrel
    by_cases hlt : k < 8
    · have c1 := hS.out.2.2.1.cell k _ (wv_get (ini A k) k hlt)
      have f1 := hS.out.2.2.1.free k
      have hn := Lib.hid (hS.out.set h2 k (ini A k k + A k))
      rw [ini_step] at hn
      have hix := idx8 A k hlt
      generalize ini A k k = x at *
      generalize A k = y at *
      go_wp2
      go_roundw
      case rel => exact ⟨k + 1, by omega, by go_num, hn.out _ (x_add x y)⟩
      case measure => simp [intOf]; omega
    · obtain rfl : k = 8 := by omega
      clear hlt
      have hS := Lib.hid (hS.out.congr (G := fa A) fun i hi => if_pos hi)
      go_wp2
      obtain ⟨wo, rfl⟩ : ∃ wo : World, wo = wr := ⟨_, rfl⟩
      go_loopw [36] (fun i wr => ∃ k : Nat, k ≤ 64 ∧ i = .int .i64 k ∧ Hid (SA N b w wr A R n (rnd R (fa A) k))) (fun i _ => 64 - (intOf i).toNat)
      case atStart => exact ⟨0, by omega, rfl, hS⟩
      case round =>
        obtain ⟨k, hk, rfl, hS⟩ := hrel
        by_cases hlt : k < 64
        · have hst : Hid (rnd R (fa A) (k + 1) = rnd1 (rnd R (fa A) k) (kc k) (wd R k)) := rfl
          generalize rnd R (fa A) k = v at *
          have hkI : (k : Int) < 64 := by omega
          have hwr := hS
          have c4 := hwr.out.c8 4 (by omega)
          go_wp2_with fail
          go_quiet ((go_at_call 24; exact quietR _ _ (by decide)))
          obtain ⟨wa, hwwa⟩ : ∃ x, wr.drewN nq = x := ⟨_, rfl⟩
          have hwa : Hid (SA N b w wa A R n v) := by rw [← hwwa]; exact hwr.out.drew nq
          rw [hwwa]
          rw [x_S1]
          clear hwwa c4
          generalize hE1 : S1 (v 4) = e1 at *
          have hE1h := Lib.hid hE1
          clear hE1
          have c4 := hwa.out.c8 4 (by omega)
          have c5 := hwa.out.c8 5 (by omega)
          have c6 := hwa.out.c8 6 (by omega)
          have c7 := hwa.out.c8 7 (by omega)
          have hsg : IntKind.u32.signed = false := rfl
          have hmx : IntKind.u32.max = 4294967295 := rfl
          have ck := hwa.out.ck k hlt
          have cw := hwa.out.cw k hlt
          go_wp2_with fail
          rw [x_ch]
          clear hsg hmx
          generalize hE2 : ch (v 4) (v 5) (v 6) = e2 at *
          have hE2h := Lib.hid hE2
          clear hE2
          go_quiet (fail)
          obtain ⟨wc, hwwc⟩ : ∃ x, wa.drewN nq = x := ⟨_, rfl⟩
          have hwc : Hid (SA N b w wc A R n v) := by rw [← hwwc]; exact hwa.out.drew nq
          rw [hwwc]
          rw [x_add4, x_add]
          clear hwwc c4 c5 c6 c7 ck cw
          generalize hE3 : v 7 + e1 + e2 + kc k + wd R k = e3 at *
          have hE3h := Lib.hid hE3
          clear hE3
          have c0 := hwc.out.c8 0 (by omega)
          go_wp2_with fail
          go_quiet ((go_at_call 24; exact quietR _ _ (by decide)))
          obtain ⟨we, hwwe⟩ : ∃ x, wc.drewN nq = x := ⟨_, rfl⟩
          have hwe : Hid (SA N b w we A R n v) := by rw [← hwwe]; exact hwc.out.drew nq
          rw [hwwe]
          rw [x_S0]
          clear hwwe c0
          generalize hE4 : S0 (v 0) = e4 at *
          have hE4h := Lib.hid hE4
          clear hE4
          have c0 := hwe.out.c8 0 (by omega)
          have c1 := hwe.out.c8 1 (by omega)
          have c2 := hwe.out.c8 2 (by omega)
          have c3 := hwe.out.c8 3 (by omega)
          have c4 := hwe.out.c8 4 (by omega)
          have c5 := hwe.out.c8 5 (by omega)
          have c6 := hwe.out.c8 6 (by omega)
          have c7 := hwe.out.c8 7 (by omega)
          have f0 := hwe.out.2.2.1.free 0
          have f1 := hwe.out.2.2.1.free 1
          have f2 := hwe.out.2.2.1.free 2
          have f3 := hwe.out.2.2.1.free 3
          have f4 := hwe.out.2.2.1.free 4
          have f5 := hwe.out.2.2.1.free 5
          have f6 := hwe.out.2.2.1.free 6
          have f7 := hwe.out.2.2.1.free 7
          have hG : Hid (∀ z0 z4 : Int, z0 = (((e3 + (e4 + mj (v 0) (v 1) (v 2))).toNat : Nat) : Int) → z4 = (((v 3 + e3).toNat : Nat) : Int) → SA N b w ((((((((we.setCell ⟨N + 1, 0, none⟩ (.int .u32 z0)).setCell ⟨N + 1, 1, none⟩ (.int .u32 (((v 0).toNat : Nat) : Int))).setCell ⟨N + 1, 2, none⟩ (.int .u32 (((v 1).toNat : Nat) : Int))).setCell ⟨N + 1, 3, none⟩ (.int .u32 (((v 2).toNat : Nat) : Int))).setCell ⟨N + 1, 4, none⟩ (.int .u32 z4)).setCell ⟨N + 1, 5, none⟩ (.int .u32 (((v 4).toNat : Nat) : Int))).setCell ⟨N + 1, 6, none⟩ (.int .u32 (((v 5).toNat : Nat) : Int))).setCell ⟨N + 1, 7, none⟩ (.int .u32 (((v 6).toNat : Nat) : Int))) A R n (rnd R (fa A) (k + 1))) := fun z0 z4 h0 h4 => by
            rw [hst.out]
            refine hwe.out.set8 h2 _ _ _ _ _ _ _ _ _ (h0.trans ?_) rfl rfl rfl (h4.trans ?_) rfl rfl rfl
            · rw [← hE4h.out, ← hE3h.out, ← hE1h.out, ← hE2h.out]; rfl
            · rw [← hE3h.out, ← hE1h.out, ← hE2h.out]; rfl
          clear hE1h hE2h hE3h hE4h hst hwa hwc
          go_wp2
          go_roundw
          case rel => exact ⟨k + 1, by omega, by go_num, hG.out _ _ (x_t2 _ _ _ _ _) (x_add _ _)⟩
          case measure => simp [intOf]; omega
        · obtain rfl : k = 64 := by omega
          clear hlt hS0 hini
          have hF2 : Hid (∀ w', Blk w' b 35 (hv (plus A (rnd R (fa A) 64) 8) R n) → Spr b w w' → Po (.returned (.tuple #[])) w') := fun w' h1 h2 => by
            have e : hv (plus A (rnd R (fa A) 64) 8) R n = hv (addF R A) R n := hv_congr (fun i hi => if_pos hi) (fun _ _ => rfl)
            rw [e] at h1
            exact hFi.out w' h1 h2
          clear hFi
          generalize rnd R (fa A) 64 = v at *
          have hrow := Lib.hid hS.out.2.2.1
          have hi := Lib.hid (i8 v)
          have hS0 := Lib.hid hS.out
          rw [← plus_zero A v] at hS0
          go_wp2_with (refine wpList_load_row rfl 31 (.tmp 3) rfl (N + 1) rfl 31 _ _ _ hrow.out Tryd.underlying31 rfl hi.out ?_)
          obtain ⟨wo2, rfl⟩ : ∃ wo2 : World, wo2 = wr := ⟨_, rfl⟩
          clear hrow hi hS
          go_loopw [129] (fun i wr => ∃ k : Nat, k ≤ 8 ∧ i = .int .i64 k ∧ Hid (SA N b w wr (plus A v k) R n v)) (fun i _ => 8 - (intOf i).toNat)
          case atStart => exact ⟨0, by omega, rfl, hS0⟩
          case round =>
            obtain ⟨k, hk, rfl, hS⟩ := hrel
            by_cases hlt : k < 8
            · have c1 := hS.out.ca k hlt
              have f1 := hS.out.1.free k
              have hn := Lib.hid (hS.out.put h2 k hlt (plus A v k k + v k))
              rw [plus_step] at hn
              have hix := idx8 v k hlt
              have hkI : (k : Int) < 8 := by omega
              generalize plus A v k k = x at *
              generalize hvk : v k = y at *
              have hvkh := Lib.hid hvk
              clear hvk
              go_wp2_with fail
              go_region
              have hn2 := (hn.out _ (x_add x y)).drew1
              have hn2h := Lib.hid hn2
              clear hn2 hn
              go_wp2
              go_roundw
              case rel => exact ⟨k + 1, by omega, by go_num, hn2h⟩
              case measure => simp [intOf]; omega
            · obtain rfl : k = 8 := by omega
              go_wp2
              exact bodyPost_ret (v := .tuple #[]) (results_none rfl _ _ _) rfl (hF2.out _ hS.out.1 hS.out.2.2.2.1)
end Go.Proofs.YtnngadbmfdfmfaaDoor
