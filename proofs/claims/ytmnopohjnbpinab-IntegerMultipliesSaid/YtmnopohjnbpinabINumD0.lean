/-
  Helper: boxes of number.divided.
-/
import Derived.Test.YtmnopohjnbpinabINumA
namespace Go.Proofs.Ytmnopohjnbpinab
open Go.RowKit
set_option linter.unusedVariables false

def W3 (w : World) (b0 b1 : Bool) (v0 v1 : Value) : World := (W2 w b0 b1 v0 v1).alloc (.cells #[.bool false, .slice none 0 0] 70)
theorem W3_size (w : World) (b0 b1 : Bool) (v0 v1 : Value) : (W3 w b0 b1 v0 v1).heap.size = w.heap.size + 1 + 1 + 1 + 1 := by unfold W3; simp [W2_size]
theorem W3_below (w : World) (b0 b1 : Bool) (v0 v1 : Value) : Below w.heap.size w (W3 w b0 b1 v0 v1) := (W2_below w b0 b1 v0 v1).alloc (by rw [W2_size]; omega) _
theorem W3_over (w : World) (b0 b1 : Bool) (v0 v1 : Value) : Below (W2 w b0 b1 v0 v1).heap.size (W2 w b0 b1 v0 v1) (W3 w b0 b1 v0 v1) := (Below.refl _ _).alloc (Nat.le_refl _) _
theorem W3_S2 (w : World) (b0 b1 : Bool) (v0 v1 : Value) (W : World) (h : Below (W3 w b0 b1 v0 v1).heap.size (W3 w b0 b1 v0 v1) W) : S2 W w.heap.size b0 b1 v0 v1 W := by
  obtain ⟨h1, h2, h3, h4, h9⟩ := ((S2.start w b0 b1 v0 v1).keep (by rw [W2_size]; omega) (W3_over w b0 b1 v0 v1)).keep (by rw [W2_size]; omega) h
  exact ⟨h1, h2, h3, h4, Below.refl _ _⟩
theorem W3_blocks (w : World) (b0 b1 : Bool) (v0 v1 : Value) (w' : World) (h : Below (W3 w b0 b1 v0 v1).heap.size (W3 w b0 b1 v0 v1) w') :
    w'.heap[w.heap.size + 1 + 1]? = some (.cells #[.bool false, .slice none 0 0] 70) ∧ w'.heap[w.heap.size + 1 + 1 + 1]? = some (.cells #[.bool false, .slice none 0 0] 70) := by
  have e := heap_alloc_new (W2 w b0 b1 v0 v1) (.cells #[.bool false, .slice none 0 0] 70)
  rw [W2_size] at e
  refine ⟨(h.block _ (by rw [W3_size]; omega)).trans (((W3_over w b0 b1 v0 v1).block _ (by rw [W2_size]; omega)).trans (W2_blocks w b0 b1 v0 v1).2.2), (h.block _ (by rw [W3_size]; omega)).trans e⟩
theorem W3_res (w : World) (b0 b1 : Bool) (v0 v1 : Value) (w' : World) (h : Below (W3 w b0 b1 v0 v1).heap.size (W3 w b0 b1 v0 v1) w') :
    w'.cell? ⟨w.heap.size + 1 + 1, 0, none⟩ = some (.bool false) ∧ w'.cell? ⟨w.heap.size + 1 + 1, 1, none⟩ = some (.slice none 0 0) ∧ w'.frozen? ⟨w.heap.size + 1 + 1, 0, none⟩ = false ∧ w'.frozen? ⟨w.heap.size + 1 + 1, 1, none⟩ = false ∧
    w'.cell? ⟨w.heap.size + 1 + 1 + 1, 0, none⟩ = some (.bool false) ∧ w'.cell? ⟨w.heap.size + 1 + 1 + 1, 1, none⟩ = some (.slice none 0 0) ∧ w'.frozen? ⟨w.heap.size + 1 + 1 + 1, 0, none⟩ = false ∧ w'.frozen? ⟨w.heap.size + 1 + 1 + 1, 1, none⟩ = false := by
  obtain ⟨g2, g3⟩ := W3_blocks w b0 b1 v0 v1 w' h
  refine ⟨?_, ?_, ?_, ?_, ?_, ?_, ?_, ?_⟩
  · simp [World.cell?, g2]
  · simp [World.cell?, g2]
  · simp [World.frozen?, g2]
  · simp [World.frozen?, g2]
  · simp [World.cell?, g3]
  · simp [World.cell?, g3]
  · simp [World.frozen?, g3]
  · simp [World.frozen?, g3]
theorem S2.put3 {W0 w : World} {n : Nat} {b0 b1 : Bool} {v0 v1 u0 u1 : Value} (h : S2 W0 n b0 b1 v0 v1 w) : S2 W0 n b0 b1 v0 v1 ((w.setCell ⟨n + 1 + 1 + 1, 0, none⟩ u0).setCell ⟨n + 1 + 1 + 1, 1, none⟩ u1) := by
  obtain ⟨h1, h2, h3, h4, h9⟩ := h
  have hb : Below (n + 1 + 1) w ((w.setCell ⟨n + 1 + 1 + 1, 0, none⟩ u0).setCell ⟨n + 1 + 1 + 1, 1, none⟩ u1) := ((Below.refl _ w).setCell (p := ⟨n + 1 + 1 + 1, 0, none⟩) (Nat.le_succ _) _).setCell (p := ⟨n + 1 + 1 + 1, 1, none⟩) (Nat.le_succ _) _
  have hc : ∀ b o, b < n + 1 + 1 → ((w.setCell ⟨n + 1 + 1 + 1, 0, none⟩ u0).setCell ⟨n + 1 + 1 + 1, 1, none⟩ u1).cell? ⟨b, o, none⟩ = w.cell? ⟨b, o, none⟩ := fun b o h => hb.cell (p := ⟨b, o, none⟩) h
  exact ⟨by rw [hc _ _ (by omega)]; exact h1, by rw [hc _ _ (by omega)]; exact h2, by rw [hc _ _ (by omega)]; exact h3, by rw [hc _ _ (by omega)]; exact h4, h9.trans hb⟩
theorem S2.putC {W0 w : World} {n : Nat} {b0 b1 : Bool} {v0 v1 u0 u1 : Value} (h : w.cell? ⟨n, 0, none⟩ = some (.bool b0) ∧ w.cell? ⟨n, 1, none⟩ = some v0 ∧ w.cell? ⟨n + 1, 0, none⟩ = some (.bool b1) ∧ w.cell? ⟨n + 1, 1, none⟩ = some v1 ∧ Below (n + 1 + 1) W0 w) : ((w.setCell ⟨n + 1 + 1, 0, none⟩ u0).setCell ⟨n + 1 + 1, 1, none⟩ u1).cell? ⟨n, 0, none⟩ = some (.bool b0) ∧ ((w.setCell ⟨n + 1 + 1, 0, none⟩ u0).setCell ⟨n + 1 + 1, 1, none⟩ u1).cell? ⟨n, 1, none⟩ = some v0 ∧ ((w.setCell ⟨n + 1 + 1, 0, none⟩ u0).setCell ⟨n + 1 + 1, 1, none⟩ u1).cell? ⟨n + 1, 0, none⟩ = some (.bool b1) ∧ ((w.setCell ⟨n + 1 + 1, 0, none⟩ u0).setCell ⟨n + 1 + 1, 1, none⟩ u1).cell? ⟨n + 1, 1, none⟩ = some v1 ∧ Below (n + 1 + 1) W0 ((w.setCell ⟨n + 1 + 1, 0, none⟩ u0).setCell ⟨n + 1 + 1, 1, none⟩ u1) := S2.put h
theorem S2.put3C {W0 w : World} {n : Nat} {b0 b1 : Bool} {v0 v1 u0 u1 : Value} (h : w.cell? ⟨n, 0, none⟩ = some (.bool b0) ∧ w.cell? ⟨n, 1, none⟩ = some v0 ∧ w.cell? ⟨n + 1, 0, none⟩ = some (.bool b1) ∧ w.cell? ⟨n + 1, 1, none⟩ = some v1 ∧ Below (n + 1 + 1) W0 w) : ((w.setCell ⟨n + 1 + 1 + 1, 0, none⟩ u0).setCell ⟨n + 1 + 1 + 1, 1, none⟩ u1).cell? ⟨n, 0, none⟩ = some (.bool b0) ∧ ((w.setCell ⟨n + 1 + 1 + 1, 0, none⟩ u0).setCell ⟨n + 1 + 1 + 1, 1, none⟩ u1).cell? ⟨n, 1, none⟩ = some v0 ∧ ((w.setCell ⟨n + 1 + 1 + 1, 0, none⟩ u0).setCell ⟨n + 1 + 1 + 1, 1, none⟩ u1).cell? ⟨n + 1, 0, none⟩ = some (.bool b1) ∧ ((w.setCell ⟨n + 1 + 1 + 1, 0, none⟩ u0).setCell ⟨n + 1 + 1 + 1, 1, none⟩ u1).cell? ⟨n + 1, 1, none⟩ = some v1 ∧ Below (n + 1 + 1) W0 ((w.setCell ⟨n + 1 + 1 + 1, 0, none⟩ u0).setCell ⟨n + 1 + 1 + 1, 1, none⟩ u1) := S2.put3 h
theorem S2.drewC {W0 w : World} {n : Nat} {b0 b1 : Bool} {v0 v1 : Value} (h : w.cell? ⟨n, 0, none⟩ = some (.bool b0) ∧ w.cell? ⟨n, 1, none⟩ = some v0 ∧ w.cell? ⟨n + 1, 0, none⟩ = some (.bool b1) ∧ w.cell? ⟨n + 1, 1, none⟩ = some v1 ∧ Below (n + 1 + 1) W0 w) : w.drew.cell? ⟨n, 0, none⟩ = some (.bool b0) ∧ w.drew.cell? ⟨n, 1, none⟩ = some v0 ∧ w.drew.cell? ⟨n + 1, 0, none⟩ = some (.bool b1) ∧ w.drew.cell? ⟨n + 1, 1, none⟩ = some v1 ∧ Below (n + 1 + 1) W0 w.drew := S2.drew h
theorem S2.keepC {W0 w w' : World} {n : Nat} {b0 b1 : Bool} {v0 v1 : Value} (hb : Below w.heap.size w w') (hn : n + 1 + 1 < W0.heap.size) (h : w.cell? ⟨n, 0, none⟩ = some (.bool b0) ∧ w.cell? ⟨n, 1, none⟩ = some v0 ∧ w.cell? ⟨n + 1, 0, none⟩ = some (.bool b1) ∧ w.cell? ⟨n + 1, 1, none⟩ = some v1 ∧ Below (n + 1 + 1) W0 w) : w'.cell? ⟨n, 0, none⟩ = some (.bool b0) ∧ w'.cell? ⟨n, 1, none⟩ = some v0 ∧ w'.cell? ⟨n + 1, 0, none⟩ = some (.bool b1) ∧ w'.cell? ⟨n + 1, 1, none⟩ = some v1 ∧ Below (n + 1 + 1) W0 w' := S2.keep h hn hb
/-- two integers come back -/
def DivNP (q r : Int) (w : World) (e : Ending) (w' : World) : Prop := ∃ qa qc ra rc, e = .returned (.tuple #[.agg #[.bool (neg q), .slice qa (E 10 q.natAbs).length qc], .agg #[.bool (neg r), .slice ra (E 10 r.natAbs).length rc]]) ∧
  Rb w' qa (E 10 q.natAbs) ∧ (E 10 q.natAbs).length ≤ qc ∧ Rb w' ra (E 10 r.natAbs) ∧ (E 10 r.natAbs).length ≤ rc ∧ Below w.heap.size w w'
theorem divNP_of {B C : Bool} {Q R : Nat} {w W1 w3 w4 : World} {qc rc : Nat} {b0 b1 : Bool} {v0 v1 : Value} {qa ra : Option Addr} (h0 : Below (W3 w b0 b1 v0 v1).heap.size (W3 w b0 b1 v0 v1) W1) (h3 : Below W1.drew.heap.size W1.drew w3) (h4 : Below w3.heap.size w3 w4)
    (h1 : Rb W1 qa (E 10 Q)) (h2 : (E 10 Q).length ≤ qc) (h5 : Rb W1 ra (E 10 R)) (h6 : (E 10 R).length ≤ rc) (u0 u1 u2 u3 : Value) : DivNP (zi B Q) (zi C R) w (.returned (.tuple #[.agg #[.bool (sg B Q), .slice qa (E 10 Q).length qc], .agg #[.bool (sg C R), .slice ra (E 10 R).length rc]])) ((((w4.setCell ⟨w.heap.size + 1 + 1, 0, none⟩ u0).setCell ⟨w.heap.size + 1 + 1, 1, none⟩ u1).setCell ⟨w.heap.size + 1 + 1 + 1, 0, none⟩ u2).setCell ⟨w.heap.size + 1 + 1 + 1, 1, none⟩ u3) := by
  have hall : Below (W3 w b0 b1 v0 v1).heap.size (W3 w b0 b1 v0 v1) w4 := (h0.drew.trans (h3.mono h0.size)).trans (h4.mono (Nat.le_trans h0.size h3.size))
  have hW1 : Below W1.heap.size W1 w4 := ((Below.refl _ W1).drew.trans h3).trans (h4.mono h3.size)
  obtain ⟨g2, g3⟩ := W3_blocks w b0 b1 v0 v1 w4 hall
  have p2 := heap_put2 w4 (w.heap.size + 1 + 1) u0 u1
  have p3 := heap_put2 ((w4.setCell ⟨w.heap.size + 1 + 1, 0, none⟩ u0).setCell ⟨w.heap.size + 1 + 1, 1, none⟩ u1) (w.heap.size + 1 + 1 + 1) u2 u3
  have g3' := (p2.2 (w.heap.size + 1 + 1 + 1) (by omega)).trans g3
  have key : ∀ (a : Option Addr) (l : List UInt8), Rb W1 a l → Rb ((((w4.setCell ⟨w.heap.size + 1 + 1, 0, none⟩ u0).setCell ⟨w.heap.size + 1 + 1, 1, none⟩ u1).setCell ⟨w.heap.size + 1 + 1 + 1, 0, none⟩ u2).setCell ⟨w.heap.size + 1 + 1 + 1, 1, none⟩ u3) a l := fun a l h =>
    ((h.go hW1).boxed _ g2 p2.1 p2.2).boxed _ g3' p3.1 p3.2
  have hw4 : Below w.heap.size w w4 := (W3_below w b0 b1 v0 v1).trans (hall.mono (by rw [W3_size]; omega))
  refine ⟨qa, qc, ra, rc, ?_, ?_, ?_, ?_, ?_, ?_⟩
  · rw [zi_abs, zi_abs, show neg (zi B Q) = sg B Q from zi_neg B Q, show neg (zi C R) = sg C R from zi_neg C R]
  · rw [zi_abs]; exact key _ _ h1
  · rw [zi_abs]; exact h2
  · rw [zi_abs]; exact key _ _ h5
  · rw [zi_abs]; exact h6
  · exact (((hw4.setCell (p := ⟨w.heap.size + 1 + 1, 0, none⟩) (by show _ ≤ w.heap.size + 1 + 1; omega) _).setCell (p := ⟨w.heap.size + 1 + 1, 1, none⟩) (by show _ ≤ w.heap.size + 1 + 1; omega) _).setCell (p := ⟨w.heap.size + 1 + 1 + 1, 0, none⟩) (by show _ ≤ w.heap.size + 1 + 1 + 1; omega) _).setCell (p := ⟨w.heap.size + 1 + 1 + 1, 1, none⟩) (by show _ ≤ w.heap.size + 1 + 1 + 1; omega) _
/-- the magnitudes of the quotient, rounded down, and of the remainder -/
def QN (x y : Int) : Nat := if neg x = neg y ∨ x.natAbs % y.natAbs = 0 then x.natAbs / y.natAbs else x.natAbs / y.natAbs + 1
def RN (x y : Int) : Nat := if neg x = neg y ∨ x.natAbs % y.natAbs = 0 then x.natAbs % y.natAbs else y.natAbs - x.natAbs % y.natAbs
def qI (x y : Int) : Int := zi (neg x != neg y) (QN x y)
def rI (x y : Int) : Int := zi (neg y) (RN x y)

end Go.Proofs.Ytmnopohjnbpinab
