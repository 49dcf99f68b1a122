/-
  Helper: a row of bytes that a conversion made, and what is appended to it.
-/
import Derived.Test.YtnngadbmfdfmfaaDoorDgHex
import Derived.Test.YtnngadbmfdfmfaaDoorDgRefB
import Derived.ArgAppend
import Derived.Lib.ConvBytes
import Derived.Lib.SmallJoins
namespace Go.Proofs.YtnngadbmfdfmfaaDoor
open Go.RowKit
set_option linter.unusedVariables false

/-- a slice of bytes with room behind it that may be written -/
def Own1 (w : World) (B : Nat) (v : Value) (l : List UInt8) : Prop :=
  ∃ g cap, v = .slice (some ⟨g, 0, none⟩) l.length cap ∧ B ≤ g ∧ g < w.heap.size ∧ l.length ≤ cap ∧ (∀ i, i < cap → (w.cell? ⟨g, i, none⟩).isSome = true ∧ w.frozen? ⟨g, i, none⟩ = false) ∧ ∀ i, i < l.length → w.cell? ⟨g, i, none⟩ = some (.int .u8 (((l.getD i 0).toNat : Nat) : Int))
theorem Own1.alloc {w : World} {B : Nat} {v : Value} {l : List UInt8} (h : Own1 w B v l) (o : Obj) : Own1 (w.alloc o) B v l := by
  obtain ⟨g, cap, h1, h2, h3, h4, h5, h6⟩ := h
  have hk : (w.alloc o).heap[g]? = w.heap[g]? := Below.heap_alloc w o g h3
  have hc : ∀ i, (w.alloc o).cell? ⟨g, i, none⟩ = w.cell? ⟨g, i, none⟩ := fun i => World.cell?_of_block (a := ⟨g, i, none⟩) hk
  have hf : ∀ i, (w.alloc o).frozen? ⟨g, i, none⟩ = w.frozen? ⟨g, i, none⟩ := fun i => World.frozen?_of_block (a := ⟨g, i, none⟩) hk
  exact ⟨g, cap, h1, h2, by simp; omega, h4, fun i hi => by rw [hc, hf]; exact h5 i hi, fun i hi => by rw [hc]; exact h6 i hi⟩
theorem Own1.below {w w' : World} {B : Nat} {v : Value} {l : List UInt8} (h : Own1 w B v l) (hb : Below w.heap.size w w') : Own1 w' B v l := by
  obtain ⟨g, cap, h1, h2, h3, h4, h5, h6⟩ := h
  have hk : w'.heap[g]? = w.heap[g]? := hb.block g h3
  have hc : ∀ i, w'.cell? ⟨g, i, none⟩ = w.cell? ⟨g, i, none⟩ := fun i => World.cell?_of_block (a := ⟨g, i, none⟩) hk
  have hf : ∀ i, w'.frozen? ⟨g, i, none⟩ = w.frozen? ⟨g, i, none⟩ := fun i => World.frozen?_of_block (a := ⟨g, i, none⟩) hk
  exact ⟨g, cap, h1, h2, Nat.lt_of_lt_of_le h3 hb.size, h4, fun i hi => by rw [hc, hf]; exact h5 i hi, fun i hi => by rw [hc]; exact h6 i hi⟩
theorem own1_row {w : World} {B n : Nat} {v : Value} {l : List UInt8} (h : w.ownsRow B 5 1 v n (bytes l)) (hn : 0 < n) : Own1 w B v l := by
  have hlen : l.length = n := by have := h.1; rw [bytes_len, Nat.mul_one] at this; exact this
  rcases h.2 with ⟨_, h2⟩ | ⟨g, cap, cur, rfl, hB, hg, hnc, _, hs, ht⟩
  · omega
  · refine ⟨g, cap, by rw [hlen], hB, (Array.getElem?_eq_some_iff.1 hg).1, by omega, fun i hi => ⟨?_, ?_⟩, fun i hi => ?_⟩
    · rw [cell_of_row w g i cur _ (0, 0) hg, Array.getElem?_eq_getElem (by omega)]; rfl
    · simp [World.frozen?, hg]
    · have hc := h.cells (g := g) rfl i _ (bytes_get l i hi)
      have e : (⟨g, 0, none⟩ : Addr).add i = ⟨g, i, none⟩ := by cases i <;> simp [Addr.add]
      rw [e] at hc; exact hc
theorem own1_conv (w : World) (s : ByteArray) : Own1 (Lib.bytesWorld w 5 s) w.heap.size (.slice (some ⟨w.heap.size, 0, none⟩) s.size (grownCap w s.size 0 5)) s.data.toList ∧ Below w.heap.size w (Lib.bytesWorld w 5 s) := by
  have hge := grownCap_ge w s.size 0 5
  have hN := Lib.bytesWorld_at_new w 5 s
  have hsz : (Lib.bytesCells w 5 s).size = grownCap w s.size 0 5 := by
    unfold Lib.bytesCells
    simp
    omega
  have hl : s.data.toList.length = s.size := (Lib.size_eq s).symm
  refine ⟨⟨w.heap.size, _, by rw [hl], Nat.le_refl _, by rw [Lib.bytesWorld_size]; omega, by rw [hl]; exact hge, fun i hi => ⟨?_, ?_⟩, fun i hi => Lib.bytesWorld_cell w _ s i (by omega)⟩, ⟨rfl, rfl, rfl, by rw [Lib.bytesWorld_size]; omega, fun k hk => Lib.bytesWorld_at_old w _ s k hk⟩⟩
  · rw [cell_of_row _ _ i _ _ _ hN, Array.getElem?_eq_getElem (by omega)]; rfl
  · simp only [World.frozen?, hN]
    simp; omega
theorem below_setCells' {B g n : Nat} {w0 w : World} {v : Value} (hBg : B ≤ g) (hb : Below B w0 w) : Below B w0 (w.setCells g n [v]) := hb.setCell (p := ⟨g, n, none⟩) hBg v
/-- 'm = append(m, c)' -/
theorem append_one {w : World} {ops : Array Oper} {rest : List Oper} {o : Oper} {a : Act} {Q : Exit → Act → World → Prop} (hgd : o.guard = none) (s x : Operand) (t : TypeId)
    (ho : o.op = Op.call { callee := Callee.builtin Builtin.append, args := #[s, x], argTypes := #[t, t] }) (hu : Tryd.prog.underlying t = some (.slice 5))
    (z : Int) (B : Nat) (v : Value) (l : List UInt8) (c : UInt8) (hs : a.eval s = v) (hx : a.eval x = .slice (some ⟨w.heap.size, 0, none⟩) 1 1)
    (hown : Own1 w B v l) (w0 : World) (hb : Below B w0 w) (hB : B ≤ w.heap.size) (hn : l.length ≤ 100000000) (hz : z = (c.toNat : Int))
    (h : ∀ v' w1, Own1 w1 B v' (l ++ [c]) → Below B w0 w1 → wpList Tryd.prog ops Q rest (a.put o.dst v') w1) :
    wpList Tryd.prog ops Q (o :: rest) a (w.alloc (.cells #[.int .u8 z] 5)) := by
  obtain ⟨i0, hi, hz0, hz1, hz2⟩ := info_parts info_u8
  have hown2 := hown.alloc (.cells #[.int .u8 z] 5)
  have hb2 : Below B w0 (w.alloc (.cells #[.int .u8 z] 5)) := hb.alloc hB _
  obtain ⟨g, cap, rfl, hBg, hgl, hcap, hok, hcell⟩ := hown2
  refine wpList_append_arg _ hgd s x t ho 5 i0 (.int .u8 0) 1 1 hu hi hz0 hz1 hz2 rfl (by decide) g 0 l.length cap (bytes l) hs (by rw [bytes_len]; omega) (fun j u hj => ?_) ⟨w.heap.size, 0, none⟩ 1 1 [.int .u8 (c.toNat : Int)] hx rfl ?_ ?_ (fun hr j hj => ?_) (by unfold maxLen; omega) (by omega) (fun hr => ?_) (fun hr v' w' ho' hgr => ?_)
  · have hjl : j < l.length := by have := (List.getElem?_eq_some_iff.1 hj).1; rwa [bytes_len] at this
    rw [bytes_get l j hjl] at hj
    rw [Nat.zero_add, hcell j hjl]; exact hj
  · intro j u hj
    match j, hj with
    | 0, hj => simp at hj; subst hj; rw [hz]; simp [Addr.add]
  · intro u hu'; simp at hu'; subst hu'; rfl
  · have : j = 0 := by simp at hj; omega
    subst this
    rw [Nat.zero_add, Nat.mul_one, Nat.add_zero]
    exact hok l.length (by omega)
  · have hnew := hok l.length (by omega)
    rw [show (0 + l.length * 1) = l.length by omega]
    refine h _ _ ⟨g, cap, by rw [List.length_append]; rfl, hBg, ?_, by rw [List.length_append]; exact hr, fun i hi' => ⟨?_, ?_⟩, fun i hi' => ?_⟩ (below_setCells' hBg hb2)
    · show g < ((w.alloc _).setCell _ _).heap.size
      rw [World.size_setCell]; exact hgl
    · show (((w.alloc _).setCell ⟨g, l.length, none⟩ _).cell? _).isSome = true
      by_cases e : i = l.length
      · subst e; rw [World.cell?_setCell_same' _ _ _ hnew.1]; rfl
      · rw [World.cell?_setCell_other _ _ _ _ (by intro e2; injection e2; omega)]; exact (hok i hi').1
    · show ((w.alloc _).setCell ⟨g, l.length, none⟩ _).frozen? _ = false
      rw [World.frozen?_setCell]; exact (hok i hi').2
    · show ((w.alloc _).setCell ⟨g, l.length, none⟩ _).cell? _ = _
      rw [List.length_append] at hi'
      by_cases e : i = l.length
      · subst e
        rw [World.cell?_setCell_same' _ _ _ hnew.1, getD_r _ _ _ (Nat.le_refl _), Nat.sub_self]; rfl
      · have hil : i < l.length := by simp at hi'; omega
        rw [World.cell?_setCell_other _ _ _ _ (by intro e2; injection e2; omega), hcell i hil, getD_l _ _ _ hil]
  · rw [bytes_snoc] at ho'
    have ho2 : w'.ownsRow B 5 1 v' (l.length + 1) (bytes (l ++ [c])) := by
      refine ⟨ho'.1, ?_⟩
      rcases ho'.2 with h2 | ⟨g2, cap2, cur2, r1, r2, r3⟩
      · exact .inl h2
      · exact .inr ⟨g2, cap2, cur2, r1, Nat.le_trans (by simp; omega) r2, r3⟩
    exact h v' w' (own1_row ho2 (by omega)) (hb2.grown hgr (by simp; omega) (fun k hk => by cases hk))
end Go.Proofs.YtnngadbmfdfmfaaDoor
