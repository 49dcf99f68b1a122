/-
  Helper: slices of Hashes.
-/
import Derived.Test.YtnngadbmfdfmfaaDoorDgLawP
import Derived.Great.BuildSlice
import Derived.Deep.MidRow
namespace Go.Proofs.YtnngadbmfdfmfaaDoor
open Go.RowKit
set_option linter.unusedVariables false
set_option linter.unusedSimpArgs false

set_option maxRecDepth 100000 in
theorem info_hash : (Tryd.prog.info? 35).map (fun i => (i.zero, i.size, i.bytes)) = some (some (.agg (hv zw zb 0).toArray), 73, 104) := by kernel_rfl
theorem HV_len (L : List UInt8) : (HV L).length = 73 := by unfold HV; exact hv_len _ _ _
theorem fill_one (cs : List Value) (hn : cs.length = 73) (zs : Array Value) (hz : zs.size = 73) :
    Instr.fill (fun i => some (i * 73, 73)) zs [(0, .agg cs.toArray)] = some cs.toArray := by
  obtain ⟨r, hr, hs, hk⟩ := Great.fill_dense (s := 73) (by omega) [.agg cs.toArray] 0 zs (by intro v hv; simp at hv; subst hv; show cs.toArray.size = 73; simp [hn]) (by simp; omega)
  have e : r = cs.toArray := by
    apply Array.ext_getElem?
    intro k
    rw [hk k]
    by_cases h : k < 73
    · rw [if_pos (by simp; omega), show k / 73 - 0 = 0 by omega, show k % 73 = k by omega]
      rfl
    · rw [if_neg (by simp; omega), Array.getElem?_eq_none (by omega), Array.getElem?_eq_none (by simp; omega)]
  exact hr.trans (congrArg some e)
/-- '[]Hash{h}' -/
theorem build_hash {ops : Array Oper} {rest : List Oper} {o : Oper} {a : Act} {w : World} {Q : Exit → Act → World → Prop} (hg : o.guard = none) (x : Operand) (ho : o.op = .buildSlice 40 1 #[(0, x)])
    (L : List UInt8) (hx : a.eval x = .agg (HV L).toArray)
    (h : wpList Tryd.prog ops Q rest (a.put o.dst (.slice (some ⟨w.heap.size, 0, none⟩) 1 1)) (w.alloc (.cells (HV L).toArray 35))) : wpList Tryd.prog ops Q (o :: rest) a w := by
  obtain ⟨i0, hi, hz0, hz1, hz2⟩ := info_parts info_hash
  refine wpList_buildSlice hg 40 35 1 _ ho (HV L).toArray i0 _ Tryd.underlying40 hi hz0 (by rw [hz1]; omega) (by rw [hz1]; omega) ?_ h
  rw [hz1]
  simp only [List.map_toArray, List.map_cons, List.map_nil, hx]
  exact fill_one _ (HV_len L) _ (by simp)
/-- 'append(l, h)': l the call's own -/
theorem append_hash {w : World} {ops : Array Oper} {rest : List Oper} {o : Oper} {a : Act} {Q : Exit → Act → World → Prop} (hgd : o.guard = none) (s x : Operand)
    (ho : o.op = Op.call { callee := Callee.builtin Builtin.append, args := #[s, x], argTypes := #[40, 40] })
    (B : Nat) (v : Value) (n : Nat) (xs : List Value) (L : List UInt8) (hs : a.eval s = v) (hx : a.eval x = .slice (some ⟨w.heap.size, 0, none⟩) 1 1)
    (hown : w.ownsRow B 35 73 v n xs) (w0 : World) (hb : Below B w0 w) (hB : B ≤ w.heap.size) (hn : n ≤ 100000)
    (h : ∀ v' w1, w1.ownsRow B 35 73 v' (n + 1) (xs ++ HV L) → Below B w0 w1 → wpList Tryd.prog ops Q rest (a.put o.dst v') w1) :
    wpList Tryd.prog ops Q (o :: rest) a (w.alloc (.cells (HV L).toArray 35)) := by
  obtain ⟨i0, hi, hz0, hz1, hz2⟩ := info_parts info_hash
  have hlt := hown.lt
  refine wpList_append_own _ hgd s x 40 ho B 35 i0 _ 73 104 Tryd.underlying40 hi hz0 hz1 hz2 (by show (hv zw zb 0).toArray.size = 73; simp [hv_len]) (by decide) v n xs hs (hown.alloc _) ⟨w.heap.size, 0, none⟩ 1 1 (HV L) hx (by rw [HV_len]) ?_ (fun u hu => hv_one _ _ _ u hu) (by unfold maxLen; omega) (by omega) (by simp; omega) ?_
  · intro j u hj
    have := (Blk.new w 35 (HV L)).cell j u hj
    rw [Addr.add_mid, Nat.zero_add]; exact this
  · intro v' w1 ho' hgr _
    exact h v' w1 ho' ((hb.alloc hB _).grown hgr (by simp; omega) (fun k hk => (hlt k hk).1))
/-- the cells of the Hashes behind the first texts -/
def hsl (z : List ByteArray) : Nat → List Value
  | 0 => []
  | k + 1 => hsl z k ++ HV (catS (z.take k))
theorem hsl_len (z : List ByteArray) (k : Nat) : (hsl z k).length = k * 73 := by
  induction k with
  | zero => rfl
  | succ k ih => simp only [hsl, List.length_append, ih, HV_len]; omega
theorem hsl_get (z : List ByteArray) : ∀ (m i j : Nat), i < m → j < 73 → (hsl z m)[i * 73 + j]? = (HV (catS (z.take i)))[j]?
  | 0, i, j, h, _ => absurd h (Nat.not_lt_zero _)
  | m + 1, i, j, h, hj => by
    simp only [hsl]
    by_cases hi : i < m
    · rw [List.getElem?_append_left (by rw [hsl_len]; omega)]
      exact hsl_get z m i j hi hj
    · obtain rfl : i = m := by omega
      rw [List.getElem?_append_right (by rw [hsl_len]; omega), hsl_len]
      rw [show i * 73 + j - i * 73 = j by omega]
theorem own_range {W : World} {B g m cap : Nat} {z : List ByteArray} (h : W.ownsRow B 35 73 (.slice (some ⟨g, 0, none⟩) m cap) m (hsl z m)) (i : Nat) (hi : i < m) : W.rangeAt g (i * 73) (HV (catS (z.take i))) := by
  intro j v hj
  have hj2 : j < 73 := by have := (List.getElem?_eq_some_iff.1 hj).1; rw [HV_len] at this; exact this
  rw [h.cellAt (i * 73 + j) (by omega), hsl_get z m i j hi hj2, hj]
theorem own_form {W : World} {B m : Nat} {v : Value} {xs : List Value} (h : W.ownsRow B 35 73 v (m + 1) xs) : ∃ g cap, v = .slice (some ⟨g, 0, none⟩) (m + 1) cap ∧ B ≤ g ∧ g < W.heap.size ∧ m + 1 ≤ cap := by
  rcases h.2 with ⟨_, h0⟩ | ⟨g, cap, cur, hv, hb, hg, hc, _⟩
  · omega
  · exact ⟨g, cap, hv, hb, (Array.getElem?_eq_some_iff.1 hg).1, hc⟩
theorem own_keep {W W' : World} {B m : Nat} {v : Value} {xs : List Value} (h : W.ownsRow B 35 73 v m xs) (hb : Below W.heap.size W W') : W'.ownsRow B 35 73 v m xs := by
  refine ⟨h.1, ?_⟩
  rcases h.2 with h0 | ⟨g, cap, cur, hv, hB, hg, r⟩
  · exact .inl h0
  · exact .inr ⟨g, cap, cur, hv, hB, (hb.block g (Array.getElem?_eq_some_iff.1 hg).1).trans hg, r⟩
end Go.Proofs.YtnngadbmfdfmfaaDoor
