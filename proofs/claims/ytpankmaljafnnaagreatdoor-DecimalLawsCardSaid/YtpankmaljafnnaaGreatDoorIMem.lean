/-
  Helper: slices of bytes in memory that read as lists.
-/
import Derived.Test.YtpankmaljafnnaaGreatDoorINum
import Derived.Test.YtpankmaljafnnaaGreatDoorShelf
import Derived.WalkKit
import Derived.OwnWalk
import Derived.Laws.OwnMore
import Derived.Laws.CopyOwn
import Derived.Lib.Hide
import Derived.Lib.Strings
import Derived.BigQuiet
import Derived.Deep.QuietTactic
namespace Go.Proofs.YtpankmaljafnnaaGreatDoor
open Go.RowKit
set_option linter.unusedVariables false

def bytes (l : List UInt8) : List Value := l.map fun c => Value.int .u8 (c.toNat : Int)
/-- the cells behind a slice that reads as a list of bytes -/
def Rb (w : World) (a : Option Addr) (l : List UInt8) : Prop :=
  l = [] ∨ ∃ b off, a = some ⟨b, off, none⟩ ∧ b < w.heap.size ∧ ∀ i, i < l.length → w.cell? ⟨b, off + i, none⟩ = some (.int .u8 ((l.getD i 0).toNat : Int))
theorem Rb.below {w w' : World} {B : Nat} {a : Option Addr} {l : List UInt8} (h : Rb w a l) (hb : Below B w w') (hB : w.heap.size ≤ B) : Rb w' a l := by
  rcases h with h | ⟨b, off, rfl, hlt, hc⟩
  · exact .inl h
  · exact .inr ⟨b, off, rfl, Nat.lt_of_lt_of_le hlt hb.size, fun i hi => by rw [hb.cell (Nat.lt_of_lt_of_le hlt hB)]; exact hc i hi⟩
theorem Rb.go {w w' : World} {a : Option Addr} {l : List UInt8} (h : Rb w a l) (hb : Below w.heap.size w w') : Rb w' a l := h.below hb (Nat.le_refl _)
theorem Rb.at {w : World} {a : Option Addr} {l : List UInt8} (h : Rb w a l) (i : Nat) (hi : i < l.length) : ∃ b off, a = some ⟨b, off, none⟩ ∧ b < w.heap.size ∧ w.cell? ⟨b, off + i, none⟩ = some (.int .u8 ((l.getD i 0).toNat : Int)) := by
  rcases h with rfl | ⟨b, off, rfl, hlt, hc⟩
  · simp at hi
  · exact ⟨b, off, rfl, hlt, hc i hi⟩
theorem Rb.nil (w : World) (a : Option Addr) : Rb w a [] := .inl rfl
/-- a call that leaves the world alone, inside a region that draws its order -/
theorem still {P : Program} {f : FuncId} {args : Array Value} {w : World} {n : Nat} {v : Value} (h : Calls P f args (w.drewN n) fun e w' => e = .returned v ∧ w.drewN n = w') : Calls P f args (w.drewN n) fun e w'' => e = .returned v ∧ ∃ m, w'' = w.drewN m :=
  h.mono fun _ _ ⟨he, hm⟩ => ⟨he, n, hm.symm⟩
theorem Below.drewN {B : Nat} {a w : World} (h : Below B a w) : ∀ n, Below B a (w.drewN n) := fun n => ⟨h.os, h.tape, h.output, h.size, h.block⟩
theorem bytes_len (l : List UInt8) : (bytes l).length = l.length := List.length_map ..
theorem bytes_get (l : List UInt8) (i : Nat) (h : i < l.length) : (bytes l)[i]? = some (.int .u8 ((l.getD i 0).toNat : Int)) := by
  unfold bytes; rw [List.getElem?_map, List.getElem?_eq_getElem h, List.getD_eq_getElem?_getD, List.getElem?_eq_getElem h]; rfl
theorem bytes_set (l : List UInt8) (i : Nat) (c : UInt8) : (bytes l).set i (.int .u8 (c.toNat : Int)) = bytes (l.set i c) := by
  unfold bytes; rw [List.map_set]
theorem bytes_snoc (l : List UInt8) (c : UInt8) : bytes l ++ [.int .u8 (c.toNat : Int)] = bytes (l ++ [c]) := by unfold bytes; simp
theorem bytes_rep (n : Nat) : List.replicate n (Value.int .u8 0) = bytes (List.replicate n 0) := by unfold bytes; simp
theorem rb_of_row {w : World} {B n e : Nat} {v : Value} {l : List UInt8} (h : w.ownsRow B e 1 v n (bytes l)) : ∃ a cap, v = .slice a n cap ∧ n = l.length ∧ n ≤ cap ∧ Rb w a l := by
  have hlen : l.length = n := by have := h.1; rw [bytes_len, Nat.mul_one] at this; exact this
  rcases h.2 with ⟨rfl, rfl⟩ | ⟨g, cap, cur, rfl, _, hg, hn, _⟩
  · exact ⟨none, 0, rfl, hlen.symm, Nat.le_refl _, .inl (List.eq_nil_of_length_eq_zero hlen)⟩
  · refine ⟨_, cap, rfl, hlen.symm, hn, .inr ⟨g, 0, rfl, (Array.getElem?_eq_some_iff.1 hg).1, fun i hi => ?_⟩⟩
    have hc := h.cells (g := g) rfl i _ (bytes_get l i hi)
    have e : (⟨g, 0, none⟩ : Addr).add i = ⟨g, 0 + i, none⟩ := by cases i <;> simp [Addr.add]
    rw [e] at hc; exact hc
theorem Rb.take {w : World} {a : Option Addr} {l : List UInt8} (h : Rb w a l) (k : Nat) : Rb w a (l.take k) := by
  rcases h with rfl | ⟨b, off, rfl, hlt, hc⟩
  · left; simp
  · refine .inr ⟨b, off, rfl, hlt, fun i hi => ?_⟩
    rw [List.length_take] at hi
    rw [hc i (by omega), List.getD_eq_getElem?_getD, List.getD_eq_getElem?_getD, List.getElem?_take_of_lt (by omega)]
theorem World.ownsRow.isSlice {w : World} {base : Nat} {e : TypeId} {size : Nat} {v : Value} {n : Nat} {xs : List Value} (h : w.ownsRow base e size v n xs) : ∃ a cap, v = .slice a n cap := by
  rcases h.2 with ⟨rfl, rfl⟩ | ⟨g, cap, cur, rfl, _⟩
  · exact ⟨none, 0, rfl⟩
  · exact ⟨_, _, rfl⟩
/-- a box of two cells that was made last, behind a call that laid what it laid behind it -/
theorem resbox {X w2 : World} {v0 v1 : Value} {t n : Nat} (hn : X.heap.size = n) (h : Below (X.alloc (.cells #[v0, v1] t)).heap.size (X.alloc (.cells #[v0, v1] t)) w2) :
    w2.cell? ⟨n, 0, none⟩ = some v0 ∧ w2.cell? ⟨n, 1, none⟩ = some v1 ∧ w2.frozen? ⟨n, 0, none⟩ = false ∧ w2.frozen? ⟨n, 1, none⟩ = false := by
  subst hn
  have hh := heap_alloc_new X (.cells #[v0, v1] t)
  have h2 := (h.block X.heap.size (by simp)).trans hh
  refine ⟨?_, ?_, ?_, ?_⟩
  · simp [World.cell?, h2]
  · simp [World.cell?, h2]
  · simp [World.frozen?, h2]
  · simp [World.frozen?, h2]
theorem Rb.boxed {w w' : World} {a : Option Addr} {l : List UInt8} (h : Rb w a l) (n : Nat) {v0 : Bool} {a1 : Option Addr} {n1 c1 t : Nat} (hn : w.heap[n]? = some (.cells #[.bool v0, .slice a1 n1 c1] t (0, 0))) (hs : w.heap.size ≤ w'.heap.size) (hk : ∀ b, b ≠ n → w'.heap[b]? = w.heap[b]?) : Rb w' a l := by
  rcases h with h | ⟨b, off, rfl, hlt, hc⟩
  · exact .inl h
  · by_cases hl : l = []
    · exact .inl hl
    · have hb : b ≠ n := by
        intro e
        subst e
        have := hc 0 (List.length_pos_iff.2 hl)
        simp only [World.cell?, hn, Nat.add_zero] at this
        match off, this with
        | 0, this => simp at this
        | 1, this => simp at this
        | k + 2, this => simp at this
      refine .inr ⟨b, off, rfl, Nat.lt_of_lt_of_le hlt hs, fun i hi => ?_⟩
      rw [← hc i hi]
      exact World.cell?_of_block (a := ⟨b, off + i, none⟩) (hk b hb)
theorem heap_put2 (w : World) (n : Nat) (v0 v1 : Value) : w.heap.size ≤ ((w.setCell ⟨n, 0, none⟩ v0).setCell ⟨n, 1, none⟩ v1).heap.size ∧ ∀ b, b ≠ n → ((w.setCell ⟨n, 0, none⟩ v0).setCell ⟨n, 1, none⟩ v1).heap[b]? = w.heap[b]? :=
  ⟨by simp [World.setCell], fun b hb => by rw [Below.heap_setCell _ _ _ _ hb, Below.heap_setCell _ _ _ _ hb]⟩
/-- the row of a world, block g -/
def Row (w : World) (g : Nat) (e : Nat) (l : List UInt8) : Prop := w.heap[g]? = some (.cells (bytes l).toArray e (0, 0))
theorem Row.lt {w : World} {g e : Nat} {l : List UInt8} (h : Row w g e l) : g < w.heap.size := (Array.getElem?_eq_some_iff.1 h).1
theorem Row.cell {w : World} {g e : Nat} {l : List UInt8} (h : Row w g e l) (i : Nat) (hi : i < l.length) : w.cell? ⟨g, i, none⟩ = some (.int .u8 ((l.getD i 0).toNat : Int)) := by
  unfold Row at h
  rw [cell_of_row w g i _ e (0, 0) h]
  have := bytes_get l i hi
  simpa using this
theorem Row.free {w : World} {g e : Nat} {l : List UInt8} (h : Row w g e l) (i : Nat) : w.frozen? ⟨g, i, none⟩ = false := by
  unfold Row at h
  simp [World.frozen?, h]
theorem Row.rb {w : World} {g e : Nat} {l : List UInt8} (h : Row w g e l) : Rb w (some ⟨g, 0, none⟩) l :=
  .inr ⟨g, 0, rfl, h.lt, fun i hi => by rw [Nat.zero_add]; exact h.cell i hi⟩
theorem Row.set {w : World} {g e : Nat} {l : List UInt8} (h : Row w g e l) (i : Nat) (c : UInt8) (hi : i < l.length) : Row (w.setCell ⟨g, i, none⟩ (.int .u8 (c.toNat : Int))) g e (l.set i c) := by
  unfold Row at h ⊢
  have hl := (Array.getElem?_eq_some_iff.1 h).1
  rw [← bytes_set]
  simp only [World.setCell, Array.getElem?_modify, if_true, h]
  simp
theorem Row.put {w : World} {g e : Nat} {l : List UInt8} (h : Row w g e l) (i v : Nat) (z : Int) (hi : i < l.length) (hv : v < 256) (hz : z = (v : Int)) : Row (w.setCell ⟨g, i, none⟩ (.int .u8 z)) g e (l.set i (UInt8.ofNat v)) := by
  have := h.set i (UInt8.ofNat v) hi
  rw [toNat_ofNat v hv] at this
  rw [hz]; exact this
/-- a store into another block -/
theorem Rb.store {w : World} {a : Option Addr} {l : List UInt8} (h : Rb w a l) (g i : Nat) (v : Value) (hn : ∀ ad, a = some ad → ad.block ≠ g) : Rb (w.setCell ⟨g, i, none⟩ v) a l := by
  rcases h with h | ⟨b, off, rfl, hlt, hc⟩
  · exact .inl h
  · refine .inr ⟨b, off, rfl, by simpa [World.setCell] using hlt, fun i hi => ?_⟩
    rw [← hc i hi]
    exact World.cell?_of_block (Below.heap_setCell w ⟨g, _, none⟩ v b (hn _ rfl))
/-- blocks that are left alone -/
theorem Rb.kept {w w' : World} {a : Option Addr} {l : List UInt8} (h : Rb w a l) (hs : w.heap.size ≤ w'.heap.size) (hk : ∀ ad, a = some ad → ad.block < w.heap.size → w'.heap[ad.block]? = w.heap[ad.block]?) : Rb w' a l := by
  rcases h with h | ⟨b, off, rfl, hlt, hc⟩
  · exact .inl h
  · refine .inr ⟨b, off, rfl, Nat.lt_of_lt_of_le hlt hs, fun i hi => ?_⟩
    rw [← hc i hi]
    exact World.cell?_of_block (a := ⟨b, off + i, none⟩) (hk ⟨b, off, none⟩ rfl hlt)
theorem Row.go {w w' : World} {B g e : Nat} {l : List UInt8} (h : Row w g e l) (hb : Below B w w') (hB : g < B) : Row w' g e l := (hb.block g hB).trans h
theorem Row.new (w : World) (e : Nat) (l : List UInt8) : Row (w.alloc (.cells (bytes l).toArray e)) w.heap.size e l := heap_alloc_new w _
theorem row_of_owns {w : World} {B g n e : Nat} {l : List UInt8} (h : w.ownsRow B e 1 (.slice (some ⟨g, 0, none⟩) n n) n (bytes l)) : Row w g e l ∧ l.length = n := by
  have hlen : l.length = n := by have := h.1; rw [bytes_len, Nat.mul_one] at this; exact this
  rcases h.2 with ⟨h, _⟩ | ⟨g', cap, cur, h', _, hg, _, _, hs, ht⟩
  · cases h
  · simp only [Value.slice.injEq, Option.some.injEq, Addr.mk.injEq, and_true, true_and] at h'
    obtain ⟨rfl, rfl⟩ := h'
    refine ⟨?_, hlen⟩
    unfold Row
    rw [hg, ← ht, List.take_of_length_le (by simp; omega)]
theorem info_u8 : (Tryz.prog.info? 5).map (fun i => (i.zero, i.size, i.bytes)) = some (some (.int .u8 0), 1, 1) := by kernel_rfl
theorem size_u8 : (Tryz.prog.info? 5).map (·.size) = some 1 := by kernel_rfl
theorem cells_one (l : List UInt8) : ∀ v ∈ bytes l, v.oneCell' = true := by
  intro v hv
  obtain ⟨c, _, rfl⟩ := List.mem_map.1 hv
  rfl
theorem rb_src {w : World} {a : Option Addr} {l : List UInt8} (h : Rb w a l) (hp : 0 < l.length) : ∃ ad, a = some ad ∧ ∀ j v, (bytes l)[j]? = some v → w.cell? (ad.add j) = some v := by
  rcases h with rfl | ⟨b, off, rfl, hlt, hc⟩
  · simp at hp
  · refine ⟨_, rfl, fun j v hv => ?_⟩
    have hj : j < l.length := by
      have := (List.getElem?_eq_some_iff.1 hv).1
      rwa [bytes_len] at this
    rw [bytes_get l j hj] at hv
    have e : (⟨b, off, none⟩ : Addr).add j = ⟨b, off + j, none⟩ := by cases j <;> simp [Addr.add]
    rw [e, hc j hj]; exact hv
theorem splice_bytes (p q : List UInt8) (off : Nat) : splice (bytes p) off (bytes q) = bytes (p.take off ++ (q ++ p.drop (off + q.length))) := by
  unfold splice bytes
  rw [List.length_map, ← List.map_take, ← List.map_drop, ← List.map_append, ← List.map_append]
/-- 'copy(row[off:], src)' at this program: the row is the call's own -/
theorem copy_bytes {w : World} {ops : Array Oper} {rest : List Oper} {o : Oper} {a : Act} {Q : Exit → Act → World → Prop} (hgd : o.guard = none) (d s : Operand) (dT sT : TypeId)
    (ho : o.op = .call { callee := .builtin .copy, args := #[d, s], argTypes := #[dT, sT] }) (hu : Tryz.prog.underlying dT = some (.slice 5))
    (dp sp : Option Addr) (dLen dCap sLen sCap : Nat) (hd : a.eval d = .slice dp dLen dCap) (hs : a.eval s = .slice sp sLen sCap)
    (g off : Nat) (R cs : List UInt8) (hg : Hid (Row w g 5 R)) (hn : cs.length = Nat.min sLen dLen) (hpos : 0 < cs.length → dp = some ⟨g, off, none⟩ ∧ Rb w sp cs) (hfit : off + cs.length ≤ R.length)
    (B : Nat) (w0 : World) (hb : Below B w0 w) (hBg : B ≤ g)
    (h : ∀ w', Hid (Row w' g 5 (R.take off ++ (cs ++ R.drop (off + cs.length)))) → Below B w0 w' → wpList Tryz.prog ops Q rest (a.put o.dst (goInt cs.length)) w') :
    wpList Tryz.prog ops Q (o :: rest) a w := by
  refine wpList_copy_splice hgd d s dT sT ho 5 hu size_u8 dp sp dLen dCap sLen sCap hd hs g off (bytes R) 5 hg.out (bytes cs) (by rw [bytes_len]; exact hn) (fun hp => ?_) (by rw [bytes_len, bytes_len]; exact hfit) (cells_one cs) B w0 hb hBg (fun w' hr hb' => ?_)
  · rw [bytes_len] at hp
    obtain ⟨h1, h2⟩ := hpos hp
    exact ⟨h1, rb_src h2 hp⟩
  · rw [bytes_len]
    refine h w' ?_ hb'
    have := hr.out
    rw [splice_bytes] at this
    exact this
/-- all blocks but one value's own are as they were -/
def Spared (w : World) (v : Value) (w1 : World) : Prop := w.heap.size ≤ w1.heap.size ∧ ∀ k, k < w.heap.size → some k ≠ v.ownBlock → w1.heap[k]? = w.heap[k]?
/-- 'out = append(out, c)' at this program: out is nil or the call's own -/
theorem append_byte {w : World} {ops : Array Oper} {rest : List Oper} {o : Oper} {a : Act} {Q : Exit → Act → World → Prop} (hgd : o.guard = none) (s x : Operand) (t : TypeId)
    (ho : o.op = Op.call { callee := Callee.builtin Builtin.append, args := #[s, x], argTypes := #[t, t] }) (hu : Tryz.prog.underlying t = some (.slice 5))
    (z : Int) (B : Nat) (v : Value) (n : Nat) (l : List UInt8) (c : UInt8) (hs : a.eval s = v) (hx : a.eval x = .slice (some ⟨w.heap.size, 0, none⟩) 1 1)
    (hown : w.ownsRow B 5 1 v n (bytes l)) (w0 : World) (hb : Below B w0 w) (hB : B ≤ w.heap.size) (hn : n ≤ 100000000) (hz : z = (c.toNat : Int))
    (h : ∀ v' w1, w1.ownsRow B 5 1 v' (n + 1) (bytes (l ++ [c])) → Below B w0 w1 → Spared w v w1 → wpList Tryz.prog ops Q rest (a.put o.dst v') w1) :
    wpList Tryz.prog ops Q (o :: rest) a (w.alloc (.cells #[.int .u8 z] 5)) := by
  obtain ⟨i0, hi, hz0, hz1, hz2⟩ := info_parts info_u8
  have hlt := hown.lt
  refine wpList_append_own _ hgd s x t ho B 5 i0 (.int .u8 0) 1 1 hu hi hz0 hz1 hz2 rfl (by decide) v n (bytes l) hs (hown.alloc _) ⟨w.heap.size, 0, none⟩ 1 1 [.int .u8 (c.toNat : Int)] hx rfl ?_ ?_ (by unfold maxLen; omega) (by omega) (by simp; omega) ?_
  · intro j u hj
    match j, hj with
    | 0, hj => simp at hj; subst hj; rw [hz]; simp [Addr.add]
  · intro u hu'; simp at hu'; subst hu'; rfl
  · intro v' w1 ho' hgr _
    rw [bytes_snoc] at ho'
    refine h v' w1 ho' ((hb.alloc hB _).grown hgr (by simp; omega) (fun k hk => (hlt k hk).1)) ⟨?_, fun k h1 h2 => ?_⟩
    · have := hgr.size
      simp at this; omega
    · rw [hgr.block k (by simp; omega) h2]
      exact Below.heap_alloc _ _ _ h1
/-- 'make([]byte, n)' at this program, under whatever name of the slice's type -/
theorem make_bytes (w : World) {ops : Array Oper} {rest : List Oper} {o : Oper} {a : Act} {Q : Exit → Act → World → Prop}
    (hg : o.guard = none) (l c : Operand) (t : TypeId) (hop : o.op = Op.makeSlice t l c) (h1 : Tryz.prog.underlying t = some (.slice 5)) (L C : Int) (n : Nat) (hl : a.eval l = .int .i64 L) (hc : a.eval c = .int .i64 C) (hL : L = (n : Int)) (hC : C = (n : Int)) (hn : n ≤ 100000000)
    (hK : ∀ w', Row w' w.heap.size 5 (List.replicate n 0) → Below w.heap.size w w' → wpList Tryz.prog ops Q rest (a.put o.dst (.slice (some ⟨w.heap.size, 0, none⟩) n n)) w') :
    wpList Tryz.prog ops Q (o :: rest) a w := by
  obtain ⟨i0, hi, hz0, hz1, hz2⟩ := info_parts info_u8
  refine wpList_make_full w hg l c t hop w.heap.size 5 i0 (.int .u8 0) 1 h1 hi hz0 hz1 .i64 .i64 L C n hl hc hL hC (by rw [hz2]; omega) (by unfold maxLen; omega) (Nat.le_refl _) (fun w' ho hgr => ?_)
  have e : (madeCells (Value.int IntKind.u8 0).cells (n * 1)).toList = bytes (List.replicate n 0) := by
    rw [← bytes_rep, Nat.mul_one]
    exact toList_madeCells_one _ _
  rw [e] at ho
  exact hK w' (row_of_owns ho).1 ((Below.refl _ w).grown hgr (Nat.le_refl _) (fun k hk => by cases hk))
end Go.Proofs.YtpankmaljafnnaaGreatDoor
