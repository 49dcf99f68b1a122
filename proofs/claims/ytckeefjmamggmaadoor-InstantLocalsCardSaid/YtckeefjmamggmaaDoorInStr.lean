/-
  Helper: rows of strings that a call makes.
-/
import Derived.Test.YtckeefjmamggmaaDoorInCan
namespace Go.Proofs.YtckeefjmamggmaaDoor
open Go.RowKit
set_option linter.unusedVariables false

def strsV (xs : List ByteArray) : List Value := xs.map fun c => Value.string c
theorem strsV_len (l : List ByteArray) : (strsV l).length = l.length := List.length_map ..
theorem strsV_snoc (l : List ByteArray) (c : ByteArray) : strsV l ++ [.string c] = strsV (l ++ [c]) := by unfold strsV; simp
theorem info_str : (Tryd.prog.info? 9).map (fun i => (i.zero, i.size, i.bytes)) = some (some (.string ByteArray.empty), 1, 16) := by kernel_rfl
theorem owns_go {w w' : World} {B C e n : Nat} {v : Value} {xs : List Value} (h : w.ownsRow B e 1 v n xs) (hb : Below C w w') (hC : w.heap.size ≤ C) : w'.ownsRow B e 1 v n xs := by
  refine ⟨h.1, ?_⟩
  rcases h.2 with h2 | ⟨g, cap, cur, h1, h2, h3, h4⟩
  · exact .inl h2
  · exact .inr ⟨g, cap, cur, h1, h2, (hb.block g (Nat.lt_of_lt_of_le (Array.getElem?_eq_some_iff.1 h3).1 hC)).trans h3, h4⟩
/-- 'out = append(out, s)' at a row of strings, in a region that draws its order -/
theorem step_append_str {w : World} {ops : Array Oper} {o : Oper} {a : Act} {K : Act → World → Prop} {Q : Exit → Act → World → Prop} {E : Prop} (hgd : o.guard = none) (s x : Operand) (t : TypeId)
    (ho : o.op = Op.call { callee := Callee.builtin Builtin.append, args := #[s, x], argTypes := #[t, t] }) (hu : Tryd.prog.underlying t = some (.slice 9))
    (c : ByteArray) (B : Nat) (v : Value) (n : Nat) (l : List ByteArray) (hs : a.eval s = v) (hx : a.eval x = .slice (some ⟨w.heap.size, 0, none⟩) 1 1)
    (hown : w.ownsRow B 9 1 v n (strsV l)) (w0 : World) (hb : Below B w0 w) (hB : B ≤ w.heap.size) (hn : n ≤ 100000000)
    (h : ∀ v' w1, w1.ownsRow B 9 1 v' (n + 1) (strsV (l ++ [c])) → Below B w0 w1 → K (a.put o.dst v') w1) :
    if Region.wanted o (yielded ops a.tmps) = true then Oper.wp Tryd.prog o a (w.alloc (.cells #[.string c] 9)) K Q else E := by
  have hw : Region.wanted o (yielded ops a.tmps) = true := by simp [Region.wanted, hgd]
  rw [if_pos hw]
  obtain ⟨i0, hi, hz0, hz1, hz2⟩ := info_parts info_str
  have hlt := hown.lt
  obtain ⟨v', w1, hrun, ho', hgr, _⟩ := run_append_own (P := Tryd.prog) (w.alloc (.cells #[.string c] 9)) B t o.type 9 i0 (.string ByteArray.empty) 1 16 hu hi hz0 hz1 hz2 rfl (by decide) v n (strsV l) (hown.alloc _) ⟨w.heap.size, 0, none⟩ 1 1 [.string c] rfl
    (by
      intro j u hj
      match j, hj with
      | 0, hj => simp at hj; subst hj; simp [Addr.add])
    (by intro u hu'; simp at hu'; subst hu'; rfl) (by unfold maxLen; omega) (by omega) (by simp; omega)
  unfold Oper.wp
  simp [execOp, ho, resolve, invoke, builtin, hs, hx, hrun, Result.andThen]
  rw [strsV_snoc] at ho'
  exact h v' w1 ho' ((hb.alloc hB _).grown hgr (by simp; omega) (fun k hk => (hlt k hk).1))
theorem strsV_get (l : List ByteArray) (i : Nat) (x : ByteArray) (h : l[i]? = some x) : (strsV l)[i]? = some (.string x) := by
  unfold strsV; rw [List.getElem?_map, h]; rfl
/-- the cells behind a slice that reads as a list of strings -/
def Sb (w : World) (a : Option Addr) (l : List ByteArray) : Prop :=
  l = [] ∨ ∃ b, a = some ⟨b, 0, none⟩ ∧ b < w.heap.size ∧ ∀ i x, l[i]? = some x → w.cell? ⟨b, i, none⟩ = some (.string x)
theorem Sb.go {w w' : World} {a : Option Addr} {l : List ByteArray} (h : Sb w a l) (hb : Below w.heap.size w w') : Sb w' a l := by
  rcases h with h | ⟨b, rfl, hlt, hc⟩
  · exact .inl h
  · exact .inr ⟨b, rfl, Nat.lt_of_lt_of_le hlt hb.size, fun i x hi => by rw [hb.cell hlt]; exact hc i x hi⟩
theorem sb_of_row {w : World} {B n : Nat} {v : Value} {l : List ByteArray} (h : w.ownsRow B 9 1 v n (strsV l)) : ∃ a cap, v = .slice a n cap ∧ n = l.length ∧ n ≤ cap ∧ Sb w a l ∧ (n = 0 → l = []) ∧ (a = none → n = 0) ∧ (a = none ∨ ∃ b, a = some ⟨b, 0, none⟩ ∧ b < w.heap.size) := by
  have hlen : l.length = n := by have := h.1; rw [strsV_len, Nat.mul_one] at this; exact this
  rcases h.2 with ⟨rfl, hn⟩ | ⟨g, cap, cur, rfl, _, hg, hn, _⟩
  · have hnil : l = [] := List.eq_nil_of_length_eq_zero (hlen.trans hn)
    subst hn
    exact ⟨none, 0, rfl, hlen.symm, Nat.le_refl _, .inl hnil, fun _ => hnil, fun _ => rfl, .inl rfl⟩
  · refine ⟨_, cap, rfl, hlen.symm, hn, .inr ⟨g, rfl, (Array.getElem?_eq_some_iff.1 hg).1, fun i x hi => ?_⟩, fun h0 => List.eq_nil_of_length_eq_zero (hlen.trans h0), (fun h0 => by cases h0), .inr ⟨g, rfl, (Array.getElem?_eq_some_iff.1 hg).1⟩⟩
    have hc := h.cells (g := g) rfl i _ (strsV_get l i x hi)
    have e : (⟨g, 0, none⟩ : Addr).add i = ⟨g, i, none⟩ := by cases i <;> simp [Addr.add]
    rw [e] at hc; exact hc
end Go.Proofs.YtckeefjmamggmaaDoor
