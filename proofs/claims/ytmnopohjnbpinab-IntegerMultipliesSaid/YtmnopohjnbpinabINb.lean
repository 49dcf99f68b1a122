/-
  Helper: outcomes of the calculations as plain functions; boxes of descriptions of numbers. (The part of ILawRings that names no statement.)
-/
import Derived.Test.YtmnopohjnbpinabIAwake
import Derived.Test.YtmnopohjnbpinabILawText
namespace Go.Proofs.Ytmnopohjnbpinab
open Go.RowKit
set_option linter.unusedVariables false

noncomputable def ov (r : Int) : ByteArray := @ite _ (Sh r) (Classical.propDecidable _) (TB r) ⟨#[]⟩
noncomputable def oe (r : Int) : Int := @ite _ (Sh r) (Classical.propDecidable _) 0 6
theorem ov_yes {r : Int} (h : Sh r) : ov r = TB r := by unfold ov; exact if_pos h
theorem ov_no {r : Int} (h : ¬ Sh r) : ov r = ⟨#[]⟩ := by unfold ov; exact if_neg h
theorem oe_yes {r : Int} (h : Sh r) : oe r = 0 := by unfold oe; exact if_pos h
theorem oe_no {r : Int} (h : ¬ Sh r) : oe r = 6 := by unfold oe; exact if_neg h
def OutU (r : Int) (w : World) (e : Ending) (w' : World) : Prop := e = .returned (.tuple #[.string (ov r), .int .i64 (oe r)]) ∧ Below w.heap.size w w'
theorem outU_of {r : Int} {w w' : World} {e : Ending} (h : OutP r w e w') : OutU r w e w' := by
  obtain ⟨h1, h2, h3⟩ := h
  refine ⟨?_, h3⟩
  by_cases g : Sh r
  · rw [ov_yes g, oe_yes g]; exact h1 g
  · rw [ov_no g, oe_no g]; exact h2 g
theorem AddU (x y : Int) (hx : Sh x) (hy : Sh y) (w : World) : Calls Try.prog 18 #[.string (TB x), .string (TB y)] w (OutU (x + y) w) := (Add_yes x y hx hy _ _ (TB_list x) (TB_list y) w).mono fun _ _ h => outU_of h
theorem SubU (x y : Int) (hx : Sh x) (hy : Sh y) (w : World) : Calls Try.prog 19 #[.string (TB x), .string (TB y)] w (OutU (x + -y) w) := (Sub_yes x y hx hy _ _ (TB_list x) (TB_list y) w).mono fun _ _ h => outU_of h
theorem MulU (x y : Int) (hx : Sh x) (hy : Sh y) (w : World) : Calls Try.prog 26 #[.string (TB x), .string (TB y)] w (OutU (x * y) w) := (Mul_yes x y hx hy _ _ (TB_list x) (TB_list y) w).mono fun _ _ h => outU_of h
theorem sh_zi (b : Bool) (m : Nat) (h : (E 10 m).length ≤ 400) : Sh (zi b m) := by unfold Sh; rw [zi_abs]; exact h
/-- a description as the walk meets it -/
def TrueP (w : World) (e : Ending) (w' : World) : Prop := e = .returned (.bool true) ∧ Below w.heap.size w w'
def NumV (ng : Bool) (D : ByteArray) (nn : Nat) : Value := .agg #[.bool ng, .string D, .int .u16 (nn : Int)]

theorem nb1_drew {W0 w : World} {n : Nat} {v00 v01 v02 : Value} (h : w.cell? ⟨n, 0, none⟩ = some (v00) ∧ w.cell? ⟨n, 1, none⟩ = some (v01) ∧ w.cell? ⟨n, 2, none⟩ = some (v02) ∧ Below (n + 1) W0 w) : w.drew.cell? ⟨n, 0, none⟩ = some (v00) ∧ w.drew.cell? ⟨n, 1, none⟩ = some (v01) ∧ w.drew.cell? ⟨n, 2, none⟩ = some (v02) ∧ Below (n + 1) W0 w.drew := by
  obtain ⟨h00, h01, h02, h9⟩ := h
  exact ⟨h00, h01, h02, h9.drew⟩
theorem nb1_keep {W0 w w' : World} {n : Nat} {v00 v01 v02 : Value} (hb : Below w.heap.size w w') (hn : n + 1 ≤ W0.heap.size) (h : w.cell? ⟨n, 0, none⟩ = some (v00) ∧ w.cell? ⟨n, 1, none⟩ = some (v01) ∧ w.cell? ⟨n, 2, none⟩ = some (v02) ∧ Below (n + 1) W0 w) : w'.cell? ⟨n, 0, none⟩ = some (v00) ∧ w'.cell? ⟨n, 1, none⟩ = some (v01) ∧ w'.cell? ⟨n, 2, none⟩ = some (v02) ∧ Below (n + 1) W0 w' := by
  obtain ⟨h00, h01, h02, h9⟩ := h
  have hs := h9.size
  have hc : ∀ b o, b < n + 1 → w'.cell? ⟨b, o, none⟩ = w.cell? ⟨b, o, none⟩ := fun b o h => hb.cell (p := ⟨b, o, none⟩) (by show b < _; omega)
  exact ⟨by rw [hc _ _ (by omega)]; exact h00, by rw [hc _ _ (by omega)]; exact h01, by rw [hc _ _ (by omega)]; exact h02, h9.trans (hb.mono (by omega))⟩
theorem nb1_start (w : World) (t : Nat) (v00 v01 v02 : Value) (n : Nat) (hn : w.heap.size = n) (W : World) (hW : W = (w.alloc (.cells #[v00, v01, v02] t))) : (W.cell? ⟨n, 0, none⟩ = some (v00) ∧ W.cell? ⟨n, 1, none⟩ = some (v01) ∧ W.cell? ⟨n, 2, none⟩ = some (v02) ∧ Below (n + 1) W W) ∧ Below n w W ∧ n + 1 ≤ W.heap.size := by
  subst hW; subst hn
  have e0 := heap_alloc_new w (.cells #[v00, v01, v02] t)
  have g0 : (w.alloc (.cells #[v00, v01, v02] t)).heap[w.heap.size]? = some (.cells #[v00, v01, v02] t) := by
    simpa using e0
  refine ⟨⟨?_, ?_, ?_, Below.refl _ _⟩, ?_, ?_⟩
  · unfold World.cell?; rw [g0]; rfl
  · unfold World.cell?; rw [g0]; rfl
  · unfold World.cell?; rw [g0]; rfl
  · exact ((Below.refl _ w).alloc (by simp; try omega) _)
  · simp
theorem nb2_drew {W0 w : World} {n : Nat} {v00 v01 v02 v10 v11 v12 : Value} (h : w.cell? ⟨n, 0, none⟩ = some (v00) ∧ w.cell? ⟨n, 1, none⟩ = some (v01) ∧ w.cell? ⟨n, 2, none⟩ = some (v02) ∧ w.cell? ⟨n + 1, 0, none⟩ = some (v10) ∧ w.cell? ⟨n + 1, 1, none⟩ = some (v11) ∧ w.cell? ⟨n + 1, 2, none⟩ = some (v12) ∧ Below (n + 1 + 1) W0 w) : w.drew.cell? ⟨n, 0, none⟩ = some (v00) ∧ w.drew.cell? ⟨n, 1, none⟩ = some (v01) ∧ w.drew.cell? ⟨n, 2, none⟩ = some (v02) ∧ w.drew.cell? ⟨n + 1, 0, none⟩ = some (v10) ∧ w.drew.cell? ⟨n + 1, 1, none⟩ = some (v11) ∧ w.drew.cell? ⟨n + 1, 2, none⟩ = some (v12) ∧ Below (n + 1 + 1) W0 w.drew := by
  obtain ⟨h00, h01, h02, h10, h11, h12, h9⟩ := h
  exact ⟨h00, h01, h02, h10, h11, h12, h9.drew⟩
theorem nb2_keep {W0 w w' : World} {n : Nat} {v00 v01 v02 v10 v11 v12 : Value} (hb : Below w.heap.size w w') (hn : n + 1 + 1 ≤ W0.heap.size) (h : w.cell? ⟨n, 0, none⟩ = some (v00) ∧ w.cell? ⟨n, 1, none⟩ = some (v01) ∧ w.cell? ⟨n, 2, none⟩ = some (v02) ∧ w.cell? ⟨n + 1, 0, none⟩ = some (v10) ∧ w.cell? ⟨n + 1, 1, none⟩ = some (v11) ∧ w.cell? ⟨n + 1, 2, none⟩ = some (v12) ∧ Below (n + 1 + 1) W0 w) : w'.cell? ⟨n, 0, none⟩ = some (v00) ∧ w'.cell? ⟨n, 1, none⟩ = some (v01) ∧ w'.cell? ⟨n, 2, none⟩ = some (v02) ∧ w'.cell? ⟨n + 1, 0, none⟩ = some (v10) ∧ w'.cell? ⟨n + 1, 1, none⟩ = some (v11) ∧ w'.cell? ⟨n + 1, 2, none⟩ = some (v12) ∧ Below (n + 1 + 1) W0 w' := by
  obtain ⟨h00, h01, h02, h10, h11, h12, h9⟩ := h
  have hs := h9.size
  have hc : ∀ b o, b < n + 1 + 1 → w'.cell? ⟨b, o, none⟩ = w.cell? ⟨b, o, none⟩ := fun b o h => hb.cell (p := ⟨b, o, none⟩) (by show b < _; omega)
  exact ⟨by rw [hc _ _ (by omega)]; exact h00, by rw [hc _ _ (by omega)]; exact h01, by rw [hc _ _ (by omega)]; exact h02, by rw [hc _ _ (by omega)]; exact h10, by rw [hc _ _ (by omega)]; exact h11, by rw [hc _ _ (by omega)]; exact h12, h9.trans (hb.mono (by omega))⟩
theorem nb2_start (w : World) (t : Nat) (v00 v01 v02 v10 v11 v12 : Value) (n : Nat) (hn : w.heap.size = n) (W : World) (hW : W = ((w.alloc (.cells #[v00, v01, v02] t)).alloc (.cells #[v10, v11, v12] t))) : (W.cell? ⟨n, 0, none⟩ = some (v00) ∧ W.cell? ⟨n, 1, none⟩ = some (v01) ∧ W.cell? ⟨n, 2, none⟩ = some (v02) ∧ W.cell? ⟨n + 1, 0, none⟩ = some (v10) ∧ W.cell? ⟨n + 1, 1, none⟩ = some (v11) ∧ W.cell? ⟨n + 1, 2, none⟩ = some (v12) ∧ Below (n + 1 + 1) W W) ∧ Below n w W ∧ n + 1 + 1 ≤ W.heap.size := by
  subst hW; subst hn
  have e0 := heap_alloc_new w (.cells #[v00, v01, v02] t)
  have g0 : ((w.alloc (.cells #[v00, v01, v02] t)).alloc (.cells #[v10, v11, v12] t)).heap[w.heap.size]? = some (.cells #[v00, v01, v02] t) := by
    rw [Below.heap_alloc _ _ _ (by simp; try omega)]
    simpa using e0
  have e1 := heap_alloc_new (w.alloc (.cells #[v00, v01, v02] t)) (.cells #[v10, v11, v12] t)
  have g1 : ((w.alloc (.cells #[v00, v01, v02] t)).alloc (.cells #[v10, v11, v12] t)).heap[w.heap.size + 1]? = some (.cells #[v10, v11, v12] t) := by
    simpa using e1
  refine ⟨⟨?_, ?_, ?_, ?_, ?_, ?_, Below.refl _ _⟩, ?_, ?_⟩
  · unfold World.cell?; rw [g0]; rfl
  · unfold World.cell?; rw [g0]; rfl
  · unfold World.cell?; rw [g0]; rfl
  · unfold World.cell?; rw [g1]; rfl
  · unfold World.cell?; rw [g1]; rfl
  · unfold World.cell?; rw [g1]; rfl
  · exact (((Below.refl _ w).alloc (by simp; try omega) _).alloc (by simp; try omega) _)
  · simp
theorem nb3_drew {W0 w : World} {n : Nat} {v00 v01 v02 v10 v11 v12 v20 v21 v22 : Value} (h : w.cell? ⟨n, 0, none⟩ = some (v00) ∧ w.cell? ⟨n, 1, none⟩ = some (v01) ∧ w.cell? ⟨n, 2, none⟩ = some (v02) ∧ w.cell? ⟨n + 1, 0, none⟩ = some (v10) ∧ w.cell? ⟨n + 1, 1, none⟩ = some (v11) ∧ w.cell? ⟨n + 1, 2, none⟩ = some (v12) ∧ w.cell? ⟨n + 1 + 1, 0, none⟩ = some (v20) ∧ w.cell? ⟨n + 1 + 1, 1, none⟩ = some (v21) ∧ w.cell? ⟨n + 1 + 1, 2, none⟩ = some (v22) ∧ Below (n + 1 + 1 + 1) W0 w) : w.drew.cell? ⟨n, 0, none⟩ = some (v00) ∧ w.drew.cell? ⟨n, 1, none⟩ = some (v01) ∧ w.drew.cell? ⟨n, 2, none⟩ = some (v02) ∧ w.drew.cell? ⟨n + 1, 0, none⟩ = some (v10) ∧ w.drew.cell? ⟨n + 1, 1, none⟩ = some (v11) ∧ w.drew.cell? ⟨n + 1, 2, none⟩ = some (v12) ∧ w.drew.cell? ⟨n + 1 + 1, 0, none⟩ = some (v20) ∧ w.drew.cell? ⟨n + 1 + 1, 1, none⟩ = some (v21) ∧ w.drew.cell? ⟨n + 1 + 1, 2, none⟩ = some (v22) ∧ Below (n + 1 + 1 + 1) W0 w.drew := by
  obtain ⟨h00, h01, h02, h10, h11, h12, h20, h21, h22, h9⟩ := h
  exact ⟨h00, h01, h02, h10, h11, h12, h20, h21, h22, h9.drew⟩
theorem nb3_keep {W0 w w' : World} {n : Nat} {v00 v01 v02 v10 v11 v12 v20 v21 v22 : Value} (hb : Below w.heap.size w w') (hn : n + 1 + 1 + 1 ≤ W0.heap.size) (h : w.cell? ⟨n, 0, none⟩ = some (v00) ∧ w.cell? ⟨n, 1, none⟩ = some (v01) ∧ w.cell? ⟨n, 2, none⟩ = some (v02) ∧ w.cell? ⟨n + 1, 0, none⟩ = some (v10) ∧ w.cell? ⟨n + 1, 1, none⟩ = some (v11) ∧ w.cell? ⟨n + 1, 2, none⟩ = some (v12) ∧ w.cell? ⟨n + 1 + 1, 0, none⟩ = some (v20) ∧ w.cell? ⟨n + 1 + 1, 1, none⟩ = some (v21) ∧ w.cell? ⟨n + 1 + 1, 2, none⟩ = some (v22) ∧ Below (n + 1 + 1 + 1) W0 w) : w'.cell? ⟨n, 0, none⟩ = some (v00) ∧ w'.cell? ⟨n, 1, none⟩ = some (v01) ∧ w'.cell? ⟨n, 2, none⟩ = some (v02) ∧ w'.cell? ⟨n + 1, 0, none⟩ = some (v10) ∧ w'.cell? ⟨n + 1, 1, none⟩ = some (v11) ∧ w'.cell? ⟨n + 1, 2, none⟩ = some (v12) ∧ w'.cell? ⟨n + 1 + 1, 0, none⟩ = some (v20) ∧ w'.cell? ⟨n + 1 + 1, 1, none⟩ = some (v21) ∧ w'.cell? ⟨n + 1 + 1, 2, none⟩ = some (v22) ∧ Below (n + 1 + 1 + 1) W0 w' := by
  obtain ⟨h00, h01, h02, h10, h11, h12, h20, h21, h22, h9⟩ := h
  have hs := h9.size
  have hc : ∀ b o, b < n + 1 + 1 + 1 → w'.cell? ⟨b, o, none⟩ = w.cell? ⟨b, o, none⟩ := fun b o h => hb.cell (p := ⟨b, o, none⟩) (by show b < _; omega)
  exact ⟨by rw [hc _ _ (by omega)]; exact h00, by rw [hc _ _ (by omega)]; exact h01, by rw [hc _ _ (by omega)]; exact h02, by rw [hc _ _ (by omega)]; exact h10, by rw [hc _ _ (by omega)]; exact h11, by rw [hc _ _ (by omega)]; exact h12, by rw [hc _ _ (by omega)]; exact h20, by rw [hc _ _ (by omega)]; exact h21, by rw [hc _ _ (by omega)]; exact h22, h9.trans (hb.mono (by omega))⟩
theorem nb3_start (w : World) (t : Nat) (v00 v01 v02 v10 v11 v12 v20 v21 v22 : Value) (n : Nat) (hn : w.heap.size = n) (W : World) (hW : W = (((w.alloc (.cells #[v00, v01, v02] t)).alloc (.cells #[v10, v11, v12] t)).alloc (.cells #[v20, v21, v22] t))) : (W.cell? ⟨n, 0, none⟩ = some (v00) ∧ W.cell? ⟨n, 1, none⟩ = some (v01) ∧ W.cell? ⟨n, 2, none⟩ = some (v02) ∧ W.cell? ⟨n + 1, 0, none⟩ = some (v10) ∧ W.cell? ⟨n + 1, 1, none⟩ = some (v11) ∧ W.cell? ⟨n + 1, 2, none⟩ = some (v12) ∧ W.cell? ⟨n + 1 + 1, 0, none⟩ = some (v20) ∧ W.cell? ⟨n + 1 + 1, 1, none⟩ = some (v21) ∧ W.cell? ⟨n + 1 + 1, 2, none⟩ = some (v22) ∧ Below (n + 1 + 1 + 1) W W) ∧ Below n w W ∧ n + 1 + 1 + 1 ≤ W.heap.size := by
  subst hW; subst hn
  have e0 := heap_alloc_new w (.cells #[v00, v01, v02] t)
  have g0 : (((w.alloc (.cells #[v00, v01, v02] t)).alloc (.cells #[v10, v11, v12] t)).alloc (.cells #[v20, v21, v22] t)).heap[w.heap.size]? = some (.cells #[v00, v01, v02] t) := by
    rw [Below.heap_alloc _ _ _ (by simp; try omega), Below.heap_alloc _ _ _ (by simp; try omega)]
    simpa using e0
  have e1 := heap_alloc_new (w.alloc (.cells #[v00, v01, v02] t)) (.cells #[v10, v11, v12] t)
  have g1 : (((w.alloc (.cells #[v00, v01, v02] t)).alloc (.cells #[v10, v11, v12] t)).alloc (.cells #[v20, v21, v22] t)).heap[w.heap.size + 1]? = some (.cells #[v10, v11, v12] t) := by
    rw [Below.heap_alloc _ _ _ (by simp; try omega)]
    simpa using e1
  have e2 := heap_alloc_new ((w.alloc (.cells #[v00, v01, v02] t)).alloc (.cells #[v10, v11, v12] t)) (.cells #[v20, v21, v22] t)
  have g2 : (((w.alloc (.cells #[v00, v01, v02] t)).alloc (.cells #[v10, v11, v12] t)).alloc (.cells #[v20, v21, v22] t)).heap[w.heap.size + 1 + 1]? = some (.cells #[v20, v21, v22] t) := by
    simpa using e2
  refine ⟨⟨?_, ?_, ?_, ?_, ?_, ?_, ?_, ?_, ?_, Below.refl _ _⟩, ?_, ?_⟩
  · unfold World.cell?; rw [g0]; rfl
  · unfold World.cell?; rw [g0]; rfl
  · unfold World.cell?; rw [g0]; rfl
  · unfold World.cell?; rw [g1]; rfl
  · unfold World.cell?; rw [g1]; rfl
  · unfold World.cell?; rw [g1]; rfl
  · unfold World.cell?; rw [g2]; rfl
  · unfold World.cell?; rw [g2]; rfl
  · unfold World.cell?; rw [g2]; rfl
  · exact ((((Below.refl _ w).alloc (by simp; try omega) _).alloc (by simp; try omega) _).alloc (by simp; try omega) _)
  · simp

end Go.Proofs.Ytmnopohjnbpinab
