/-
  Helper: what the walk of CodepointFeeds needs: a list of strings that comes in from outside, the feeder's variable, what a region keeps.
-/
import Derived.Test.YtpebgggdpgppdaaDoorFeedPlain
import Derived.Test.YtpebgggdpgppdaaDoorRowIn
import Derived.Test.YtpebgggdpgppdaaDoorLawsCpForks
namespace Go.Proofs.YtpebgggdpgppdaaDoor
open Go.RowKit
set_option linter.unusedVariables false

/-- a slice of strings as the frame opens it -/
def IsStrs (w : World) (a : Option Addr) (len cap : Nat) (z : List ByteArray) : Prop :=
  (a = none ∧ len = 0 ∧ cap = 0 ∧ z = []) ∨
  ∃ x : Addr, a = some x ∧ len ≤ cap ∧ cap ≤ maxLen ∧ z.length = cap ∧ (∀ i, i < z.length → w.cell? (x.add i) = some (.string (z.getD i ByteArray.empty))) ∧ (∀ s ∈ z, s.size ≤ maxLen)
theorem isstrs_at {w : World} {a : Option Addr} {len cap : Nat} {z : List ByteArray} (h : IsStrs w a len cap z) : len ≤ maxLen ∧ ∀ i, i < len → ∃ b off s, a = some ⟨b, off, none⟩ ∧ b < w.heap.size ∧ w.cell? ⟨b, off + i, none⟩ = some (.string s) ∧ s.size ≤ maxLen := by
  rcases h with ⟨rfl, rfl, rfl, rfl⟩ | ⟨x, rfl, hl, hm, hz, hc, hw⟩
  · exact ⟨Nat.zero_le _, fun i hi => absurd hi (Nat.not_lt_zero _)⟩
  · refine ⟨Nat.le_trans hl hm, fun i hi => ?_⟩
    have hx := hc 0 (by omega)
    have e0 : x.add 0 = x := by simp [Addr.add]
    rw [e0] at hx
    obtain ⟨ex, hb⟩ := cell_spot hx
    have hi2 := hc i (by omega)
    have e : x.add i = ⟨x.block, x.off + i, none⟩ := by
      rw [ex]; cases i <;> simp [Addr.add]
    rw [e] at hi2
    refine ⟨x.block, x.off, _, by rw [← ex], hb, hi2, hw _ ?_⟩
    rw [List.getD_eq_getElem?_getD, List.getElem?_eq_getElem (by omega)]
    exact List.getElem_mem (by omega)

/-- where the feeder and the law's other variables stand behind an input -/
def At (I : ByteArray) (q : List UInt8) (told : Int) : Prop := q = tail I ∧ told = (scalars I 0).length ∧ q.length ≤ 3
theorem at_start : At ⟨#[]⟩ [] 0 := ⟨by decide, by decide, by decide⟩

/-- the feeder's variable, and that it may be written -/
def Fz (k : Nat) (b0 b1 b2 n : Int) (w : World) : Prop := Fb k b0 b1 b2 n w ∧ w.frozen? ⟨k, 0, none⟩ = false ∧ w.frozen? ⟨k, 1, none⟩ = false ∧ w.frozen? ⟨k, 2, none⟩ = false ∧ w.frozen? ⟨k, 3, none⟩ = false
theorem fz_new (w : World) (b0 b1 b2 n : Int) (t : TypeId) : Fz w.heap.size b0 b1 b2 n (w.alloc (.cells #[.int .u8 b0, .int .u8 b1, .int .u8 b2, .int .i64 n] t)) :=
  ⟨fb_new w b0 b1 b2 n t, World.frozen?_alloc_at _ _ _ _ rfl, World.frozen?_alloc_at _ _ _ _ rfl, World.frozen?_alloc_at _ _ _ _ rfl, World.frozen?_alloc_at _ _ _ _ rfl⟩
theorem Fz.below {k : Nat} {b0 b1 b2 n : Int} {w w' : World} (h : Fz k b0 b1 b2 n w) (hb : Below w.heap.size w w') : Fz k b0 b1 b2 n w' := by
  obtain ⟨h0, z0, z1, z2, z3⟩ := h
  refine ⟨h0.below hb, ?_, ?_, ?_, ?_⟩
  · rw [hb.frozen (by exact h0.1)]; exact z0
  · rw [hb.frozen (by exact h0.1)]; exact z1
  · rw [hb.frozen (by exact h0.1)]; exact z2
  · rw [hb.frozen (by exact h0.1)]; exact z3
theorem Tabs.below' {w w' : World} (h : Tabs w) (hb : Below w.heap.size w w') : Tabs w' := h.below hb

def TR (k0 : Nat) (b0 b1 b2 n : Int) (o : Nat) (w W : World) : Prop := Fz k0 b0 b1 b2 n W ∧ Tabs W ∧ Below w.heap.size w W ∧ o < w.heap.size
def SR (k0 : Nat) (b0 b1 b2 n : Int) (o i : Nat) (part : ByteArray) (w W : World) : Prop :=
  W.cell? ⟨k0, 0, none⟩ = some (.int .u8 b0) ∧ W.cell? ⟨k0, 1, none⟩ = some (.int .u8 b1) ∧ W.cell? ⟨k0, 2, none⟩ = some (.int .u8 b2) ∧ W.cell? ⟨k0, 3, none⟩ = some (.int .i64 n) ∧ W.cell? ⟨o, i, none⟩ = some (.string part) ∧ TR k0 b0 b1 b2 n o w W
theorem SR.keep {k0 : Nat} {b0 b1 b2 n : Int} {o i : Nat} {part : ByteArray} {w W W' : World} (h : SR k0 b0 b1 b2 n o i part w W) (hb : Below W.heap.size W W') : SR k0 b0 b1 b2 n o i part w W' := by
  obtain ⟨_, _, _, _, c, hz, hT, hB, ho⟩ := h
  have hz2 := hz.below hb
  exact ⟨hz2.1.2.1, hz2.1.2.2.1, hz2.1.2.2.2.1, hz2.1.2.2.2.2, by rw [hb.cell (by exact Nat.lt_of_lt_of_le ho hB.size)]; exact c, hz2, hT.below hb, hB.trans (hb.mono hB.size), ho⟩
theorem SR.drew {k0 : Nat} {b0 b1 b2 n : Int} {o i : Nat} {part : ByteArray} {w W : World} (h : SR k0 b0 b1 b2 n o i part w W) : SR k0 b0 b1 b2 n o i part w W.drew := h.keep ((Below.refl _ W).drew)
theorem SR.tabs {k0 : Nat} {b0 b1 b2 n : Int} {o i : Nat} {part : ByteArray} {w W : World} (h : SR k0 b0 b1 b2 n o i part w W) : Tabs W := h.2.2.2.2.2.2.1
end Go.Proofs.YtpebgggdpgppdaaDoor
