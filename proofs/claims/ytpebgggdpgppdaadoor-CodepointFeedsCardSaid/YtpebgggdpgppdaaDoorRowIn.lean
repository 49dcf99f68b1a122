/-
  Helper: a list of runes that comes in from outside.
-/
import Derived.Test.YtpebgggdpgppdaaDoorRunesIs
namespace Go.Proofs.YtpebgggdpgppdaaDoor
open Go.RowKit
set_option linter.unusedVariables false

/-- a slice of numbers as the frame opens it: z runs up to the capacity -/
def IsRow (k : IntKind) (w : World) (a : Option Addr) (len cap : Nat) (z : List Int) : Prop :=
  (a = none ∧ len = 0 ∧ cap = 0 ∧ z = []) ∨
  ∃ x : Addr, a = some x ∧ len ≤ cap ∧ cap ≤ maxLen ∧ z.length = cap ∧ (∀ i, i < z.length → w.cell? (x.add i) = some (.int k (z.getD i 0))) ∧ (∀ n ∈ z, (Lit.int k n).wf = true)
theorem cell_spot {w : World} {x : Addr} {v : Value} (h : w.cell? x = some v) : x = ⟨x.block, x.off, none⟩ ∧ x.block < w.heap.size := by
  unfold World.cell? at h
  obtain ⟨b, o, sp⟩ := x
  cases hb : w.heap[b]? with
  | none => simp [hb] at h
  | some ob =>
    have hlt : b < w.heap.size := (Array.getElem?_eq_some_iff.1 hb).1
    cases sp with
    | none => exact ⟨rfl, hlt⟩
    | some q => cases ob <;> simp [hb] at h
theorem isrow_rr {w : World} {a : Option Addr} {len cap : Nat} {z : List Int} (h : IsRow .i32 w a len cap z) : ∃ xs : List Int, xs.length = len ∧ Rr w a xs ∧ len ≤ maxLen ∧ (∀ n ∈ xs, (Lit.int .i32 n).wf = true) := by
  rcases h with ⟨rfl, rfl, rfl, rfl⟩ | ⟨x, rfl, hl, hm, hz, hc, hw⟩
  · exact ⟨[], rfl, .inl rfl, Nat.zero_le _, fun n hn => by simp at hn⟩
  · refine ⟨z.take len, by rw [List.length_take]; omega, ?_, by omega, fun n hn => hw n (List.mem_of_mem_take hn)⟩
    by_cases h0 : len = 0
    · left; rw [h0, List.take_zero]
    · right
      have hx := hc 0 (by omega)
      have e0 : x.add 0 = x := by simp [Addr.add]
      rw [e0] at hx
      obtain ⟨ex, hb⟩ := cell_spot hx
      refine ⟨x.block, x.off, by rw [← ex], hb, fun i hi => ?_⟩
      rw [List.length_take] at hi
      have hi2 := hc i (by omega)
      have e : x.add i = ⟨x.block, x.off + i, none⟩ := by
        rw [ex]; cases i <;> simp [Addr.add]
      rw [e] at hi2
      rw [hi2, List.getD_eq_getElem?_getD, List.getD_eq_getElem?_getD, List.getElem?_take_of_lt (by omega)]
end Go.Proofs.YtpebgggdpgppdaaDoor
