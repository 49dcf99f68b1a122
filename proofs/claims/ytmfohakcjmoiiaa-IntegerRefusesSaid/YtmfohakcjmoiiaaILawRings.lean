/-
  Helper: the walk of the statement IntegerRings.
-/
import Derived.Test.YtmfohakcjmoiiaaIAwake
import Derived.Test.YtmfohakcjmoiiaaILawText
namespace Go.Proofs.Ytmfohakcjmoiiaa
open Go.RowKit
set_option linter.unusedVariables false

noncomputable def ov (r : Int) : ByteArray := @ite _ (Sh r) (Classical.propDecidable _) (TB r) ⟨#[]⟩
noncomputable def oe (r : Int) : Int := @ite _ (Sh r) (Classical.propDecidable _) 0 6
theorem ov_yes {r : Int} (h : Sh r) : ov r = TB r := by unfold ov; exact if_pos h
theorem ov_no {r : Int} (h : ¬ Sh r) : ov r = ⟨#[]⟩ := by unfold ov; exact if_neg h
theorem oe_yes {r : Int} (h : Sh r) : oe r = 0 := by unfold oe; exact if_pos h
theorem oe_no {r : Int} (h : ¬ Sh r) : oe r = 6 := by unfold oe; exact if_neg h
def OutU (r : Int) (w : World) (e : Ending) (w' : World) : Prop := e = .returned (.tuple #[.string (ov r), .int .i64 (oe r)]) ∧ Below w.heap.size w w'
theorem outU_of {r : Int} {w w' : World} {e : Ending} (h : OutP r w e w') : OutU r w e w' := by
  obtain ⟨h1, h2, h3⟩ := h
  refine ⟨?_, h3⟩
  by_cases g : Sh r
  · rw [ov_yes g, oe_yes g]; exact h1 g
  · rw [ov_no g, oe_no g]; exact h2 g
theorem AddU (x y : Int) (hx : Sh x) (hy : Sh y) (w : World) : Calls Try.prog 21 #[.string (TB x), .string (TB y)] w (OutU (x + y) w) := (Add_yes x y hx hy _ _ (TB_list x) (TB_list y) w).mono fun _ _ h => outU_of h
theorem SubU (x y : Int) (hx : Sh x) (hy : Sh y) (w : World) : Calls Try.prog 22 #[.string (TB x), .string (TB y)] w (OutU (x + -y) w) := (Sub_yes x y hx hy _ _ (TB_list x) (TB_list y) w).mono fun _ _ h => outU_of h
theorem MulU (x y : Int) (hx : Sh x) (hy : Sh y) (w : World) : Calls Try.prog 29 #[.string (TB x), .string (TB y)] w (OutU (x * y) w) := (Mul_yes x y hx hy _ _ (TB_list x) (TB_list y) w).mono fun _ _ h => outU_of h
theorem sh_zi (b : Bool) (m : Nat) (h : (E 10 m).length ≤ 400) : Sh (zi b m) := by unfold Sh; rw [zi_abs]; exact h
/-- a description as the walk meets it -/
def TrueP (w : World) (e : Ending) (w' : World) : Prop := e = .returned (.bool true) ∧ Below w.heap.size w w'
def NumV (ng : Bool) (D : ByteArray) (nn : Nat) : Value := .agg #[.bool ng, .string D, .int .u16 (nn : Int)]

theorem nb1_drew {W0 w : World} {n : Nat} {v00 v01 v02 : Value} (h : w.cell? ⟨n, 0, none⟩ = some (v00) ∧ w.cell? ⟨n, 1, none⟩ = some (v01) ∧ w.cell? ⟨n, 2, none⟩ = some (v02) ∧ Below (n + 1) W0 w) : w.drew.cell? ⟨n, 0, none⟩ = some (v00) ∧ w.drew.cell? ⟨n, 1, none⟩ = some (v01) ∧ w.drew.cell? ⟨n, 2, none⟩ = some (v02) ∧ Below (n + 1) W0 w.drew := by
  obtain ⟨h00, h01, h02, h9⟩ := h
  exact ⟨h00, h01, h02, h9.drew⟩
theorem nb1_keep {W0 w w' : World} {n : Nat} {v00 v01 v02 : Value} (hb : Below w.heap.size w w') (hn : n + 1 ≤ W0.heap.size) (h : w.cell? ⟨n, 0, none⟩ = some (v00) ∧ w.cell? ⟨n, 1, none⟩ = some (v01) ∧ w.cell? ⟨n, 2, none⟩ = some (v02) ∧ Below (n + 1) W0 w) : w'.cell? ⟨n, 0, none⟩ = some (v00) ∧ w'.cell? ⟨n, 1, none⟩ = some (v01) ∧ w'.cell? ⟨n, 2, none⟩ = some (v02) ∧ Below (n + 1) W0 w' := by
  obtain ⟨h00, h01, h02, h9⟩ := h
  have hs := h9.size
  have hc : ∀ b o, b < n + 1 → w'.cell? ⟨b, o, none⟩ = w.cell? ⟨b, o, none⟩ := fun b o h => hb.cell (p := ⟨b, o, none⟩) (by show b < _; omega)
  exact ⟨by rw [hc _ _ (by omega)]; exact h00, by rw [hc _ _ (by omega)]; exact h01, by rw [hc _ _ (by omega)]; exact h02, h9.trans (hb.mono (by omega))⟩
theorem nb1_start (w : World) (t : Nat) (v00 v01 v02 : Value) (n : Nat) (hn : w.heap.size = n) (W : World) (hW : W = (w.alloc (.cells #[v00, v01, v02] t))) : (W.cell? ⟨n, 0, none⟩ = some (v00) ∧ W.cell? ⟨n, 1, none⟩ = some (v01) ∧ W.cell? ⟨n, 2, none⟩ = some (v02) ∧ Below (n + 1) W W) ∧ Below n w W ∧ n + 1 ≤ W.heap.size := by
  subst hW; subst hn
  have e0 := heap_alloc_new w (.cells #[v00, v01, v02] t)
  have g0 : (w.alloc (.cells #[v00, v01, v02] t)).heap[w.heap.size]? = some (.cells #[v00, v01, v02] t) := by
    simpa using e0
  refine ⟨⟨?_, ?_, ?_, Below.refl _ _⟩, ?_, ?_⟩
  · unfold World.cell?; rw [g0]; rfl
  · unfold World.cell?; rw [g0]; rfl
  · unfold World.cell?; rw [g0]; rfl
  · exact ((Below.refl _ w).alloc (by simp; try omega) _)
  · simp
theorem nb2_drew {W0 w : World} {n : Nat} {v00 v01 v02 v10 v11 v12 : Value} (h : w.cell? ⟨n, 0, none⟩ = some (v00) ∧ w.cell? ⟨n, 1, none⟩ = some (v01) ∧ w.cell? ⟨n, 2, none⟩ = some (v02) ∧ w.cell? ⟨n + 1, 0, none⟩ = some (v10) ∧ w.cell? ⟨n + 1, 1, none⟩ = some (v11) ∧ w.cell? ⟨n + 1, 2, none⟩ = some (v12) ∧ Below (n + 1 + 1) W0 w) : w.drew.cell? ⟨n, 0, none⟩ = some (v00) ∧ w.drew.cell? ⟨n, 1, none⟩ = some (v01) ∧ w.drew.cell? ⟨n, 2, none⟩ = some (v02) ∧ w.drew.cell? ⟨n + 1, 0, none⟩ = some (v10) ∧ w.drew.cell? ⟨n + 1, 1, none⟩ = some (v11) ∧ w.drew.cell? ⟨n + 1, 2, none⟩ = some (v12) ∧ Below (n + 1 + 1) W0 w.drew := by
  obtain ⟨h00, h01, h02, h10, h11, h12, h9⟩ := h
  exact ⟨h00, h01, h02, h10, h11, h12, h9.drew⟩
theorem nb2_keep {W0 w w' : World} {n : Nat} {v00 v01 v02 v10 v11 v12 : Value} (hb : Below w.heap.size w w') (hn : n + 1 + 1 ≤ W0.heap.size) (h : w.cell? ⟨n, 0, none⟩ = some (v00) ∧ w.cell? ⟨n, 1, none⟩ = some (v01) ∧ w.cell? ⟨n, 2, none⟩ = some (v02) ∧ w.cell? ⟨n + 1, 0, none⟩ = some (v10) ∧ w.cell? ⟨n + 1, 1, none⟩ = some (v11) ∧ w.cell? ⟨n + 1, 2, none⟩ = some (v12) ∧ Below (n + 1 + 1) W0 w) : w'.cell? ⟨n, 0, none⟩ = some (v00) ∧ w'.cell? ⟨n, 1, none⟩ = some (v01) ∧ w'.cell? ⟨n, 2, none⟩ = some (v02) ∧ w'.cell? ⟨n + 1, 0, none⟩ = some (v10) ∧ w'.cell? ⟨n + 1, 1, none⟩ = some (v11) ∧ w'.cell? ⟨n + 1, 2, none⟩ = some (v12) ∧ Below (n + 1 + 1) W0 w' := by
  obtain ⟨h00, h01, h02, h10, h11, h12, h9⟩ := h
  have hs := h9.size
  have hc : ∀ b o, b < n + 1 + 1 → w'.cell? ⟨b, o, none⟩ = w.cell? ⟨b, o, none⟩ := fun b o h => hb.cell (p := ⟨b, o, none⟩) (by show b < _; omega)
  exact ⟨by rw [hc _ _ (by omega)]; exact h00, by rw [hc _ _ (by omega)]; exact h01, by rw [hc _ _ (by omega)]; exact h02, by rw [hc _ _ (by omega)]; exact h10, by rw [hc _ _ (by omega)]; exact h11, by rw [hc _ _ (by omega)]; exact h12, h9.trans (hb.mono (by omega))⟩
theorem nb2_start (w : World) (t : Nat) (v00 v01 v02 v10 v11 v12 : Value) (n : Nat) (hn : w.heap.size = n) (W : World) (hW : W = ((w.alloc (.cells #[v00, v01, v02] t)).alloc (.cells #[v10, v11, v12] t))) : (W.cell? ⟨n, 0, none⟩ = some (v00) ∧ W.cell? ⟨n, 1, none⟩ = some (v01) ∧ W.cell? ⟨n, 2, none⟩ = some (v02) ∧ W.cell? ⟨n + 1, 0, none⟩ = some (v10) ∧ W.cell? ⟨n + 1, 1, none⟩ = some (v11) ∧ W.cell? ⟨n + 1, 2, none⟩ = some (v12) ∧ Below (n + 1 + 1) W W) ∧ Below n w W ∧ n + 1 + 1 ≤ W.heap.size := by
  subst hW; subst hn
  have e0 := heap_alloc_new w (.cells #[v00, v01, v02] t)
  have g0 : ((w.alloc (.cells #[v00, v01, v02] t)).alloc (.cells #[v10, v11, v12] t)).heap[w.heap.size]? = some (.cells #[v00, v01, v02] t) := by
    rw [Below.heap_alloc _ _ _ (by simp; try omega)]
    simpa using e0
  have e1 := heap_alloc_new (w.alloc (.cells #[v00, v01, v02] t)) (.cells #[v10, v11, v12] t)
  have g1 : ((w.alloc (.cells #[v00, v01, v02] t)).alloc (.cells #[v10, v11, v12] t)).heap[w.heap.size + 1]? = some (.cells #[v10, v11, v12] t) := by
    simpa using e1
  refine ⟨⟨?_, ?_, ?_, ?_, ?_, ?_, Below.refl _ _⟩, ?_, ?_⟩
  · unfold World.cell?; rw [g0]; rfl
  · unfold World.cell?; rw [g0]; rfl
  · unfold World.cell?; rw [g0]; rfl
  · unfold World.cell?; rw [g1]; rfl
  · unfold World.cell?; rw [g1]; rfl
  · unfold World.cell?; rw [g1]; rfl
  · exact (((Below.refl _ w).alloc (by simp; try omega) _).alloc (by simp; try omega) _)
  · simp
theorem nb3_drew {W0 w : World} {n : Nat} {v00 v01 v02 v10 v11 v12 v20 v21 v22 : Value} (h : w.cell? ⟨n, 0, none⟩ = some (v00) ∧ w.cell? ⟨n, 1, none⟩ = some (v01) ∧ w.cell? ⟨n, 2, none⟩ = some (v02) ∧ w.cell? ⟨n + 1, 0, none⟩ = some (v10) ∧ w.cell? ⟨n + 1, 1, none⟩ = some (v11) ∧ w.cell? ⟨n + 1, 2, none⟩ = some (v12) ∧ w.cell? ⟨n + 1 + 1, 0, none⟩ = some (v20) ∧ w.cell? ⟨n + 1 + 1, 1, none⟩ = some (v21) ∧ w.cell? ⟨n + 1 + 1, 2, none⟩ = some (v22) ∧ Below (n + 1 + 1 + 1) W0 w) : w.drew.cell? ⟨n, 0, none⟩ = some (v00) ∧ w.drew.cell? ⟨n, 1, none⟩ = some (v01) ∧ w.drew.cell? ⟨n, 2, none⟩ = some (v02) ∧ w.drew.cell? ⟨n + 1, 0, none⟩ = some (v10) ∧ w.drew.cell? ⟨n + 1, 1, none⟩ = some (v11) ∧ w.drew.cell? ⟨n + 1, 2, none⟩ = some (v12) ∧ w.drew.cell? ⟨n + 1 + 1, 0, none⟩ = some (v20) ∧ w.drew.cell? ⟨n + 1 + 1, 1, none⟩ = some (v21) ∧ w.drew.cell? ⟨n + 1 + 1, 2, none⟩ = some (v22) ∧ Below (n + 1 + 1 + 1) W0 w.drew := by
  obtain ⟨h00, h01, h02, h10, h11, h12, h20, h21, h22, h9⟩ := h
  exact ⟨h00, h01, h02, h10, h11, h12, h20, h21, h22, h9.drew⟩
theorem nb3_keep {W0 w w' : World} {n : Nat} {v00 v01 v02 v10 v11 v12 v20 v21 v22 : Value} (hb : Below w.heap.size w w') (hn : n + 1 + 1 + 1 ≤ W0.heap.size) (h : w.cell? ⟨n, 0, none⟩ = some (v00) ∧ w.cell? ⟨n, 1, none⟩ = some (v01) ∧ w.cell? ⟨n, 2, none⟩ = some (v02) ∧ w.cell? ⟨n + 1, 0, none⟩ = some (v10) ∧ w.cell? ⟨n + 1, 1, none⟩ = some (v11) ∧ w.cell? ⟨n + 1, 2, none⟩ = some (v12) ∧ w.cell? ⟨n + 1 + 1, 0, none⟩ = some (v20) ∧ w.cell? ⟨n + 1 + 1, 1, none⟩ = some (v21) ∧ w.cell? ⟨n + 1 + 1, 2, none⟩ = some (v22) ∧ Below (n + 1 + 1 + 1) W0 w) : w'.cell? ⟨n, 0, none⟩ = some (v00) ∧ w'.cell? ⟨n, 1, none⟩ = some (v01) ∧ w'.cell? ⟨n, 2, none⟩ = some (v02) ∧ w'.cell? ⟨n + 1, 0, none⟩ = some (v10) ∧ w'.cell? ⟨n + 1, 1, none⟩ = some (v11) ∧ w'.cell? ⟨n + 1, 2, none⟩ = some (v12) ∧ w'.cell? ⟨n + 1 + 1, 0, none⟩ = some (v20) ∧ w'.cell? ⟨n + 1 + 1, 1, none⟩ = some (v21) ∧ w'.cell? ⟨n + 1 + 1, 2, none⟩ = some (v22) ∧ Below (n + 1 + 1 + 1) W0 w' := by
  obtain ⟨h00, h01, h02, h10, h11, h12, h20, h21, h22, h9⟩ := h
  have hs := h9.size
  have hc : ∀ b o, b < n + 1 + 1 + 1 → w'.cell? ⟨b, o, none⟩ = w.cell? ⟨b, o, none⟩ := fun b o h => hb.cell (p := ⟨b, o, none⟩) (by show b < _; omega)
  exact ⟨by rw [hc _ _ (by omega)]; exact h00, by rw [hc _ _ (by omega)]; exact h01, by rw [hc _ _ (by omega)]; exact h02, by rw [hc _ _ (by omega)]; exact h10, by rw [hc _ _ (by omega)]; exact h11, by rw [hc _ _ (by omega)]; exact h12, by rw [hc _ _ (by omega)]; exact h20, by rw [hc _ _ (by omega)]; exact h21, by rw [hc _ _ (by omega)]; exact h22, h9.trans (hb.mono (by omega))⟩
theorem nb3_start (w : World) (t : Nat) (v00 v01 v02 v10 v11 v12 v20 v21 v22 : Value) (n : Nat) (hn : w.heap.size = n) (W : World) (hW : W = (((w.alloc (.cells #[v00, v01, v02] t)).alloc (.cells #[v10, v11, v12] t)).alloc (.cells #[v20, v21, v22] t))) : (W.cell? ⟨n, 0, none⟩ = some (v00) ∧ W.cell? ⟨n, 1, none⟩ = some (v01) ∧ W.cell? ⟨n, 2, none⟩ = some (v02) ∧ W.cell? ⟨n + 1, 0, none⟩ = some (v10) ∧ W.cell? ⟨n + 1, 1, none⟩ = some (v11) ∧ W.cell? ⟨n + 1, 2, none⟩ = some (v12) ∧ W.cell? ⟨n + 1 + 1, 0, none⟩ = some (v20) ∧ W.cell? ⟨n + 1 + 1, 1, none⟩ = some (v21) ∧ W.cell? ⟨n + 1 + 1, 2, none⟩ = some (v22) ∧ Below (n + 1 + 1 + 1) W W) ∧ Below n w W ∧ n + 1 + 1 + 1 ≤ W.heap.size := by
  subst hW; subst hn
  have e0 := heap_alloc_new w (.cells #[v00, v01, v02] t)
  have g0 : (((w.alloc (.cells #[v00, v01, v02] t)).alloc (.cells #[v10, v11, v12] t)).alloc (.cells #[v20, v21, v22] t)).heap[w.heap.size]? = some (.cells #[v00, v01, v02] t) := by
    rw [Below.heap_alloc _ _ _ (by simp; try omega), Below.heap_alloc _ _ _ (by simp; try omega)]
    simpa using e0
  have e1 := heap_alloc_new (w.alloc (.cells #[v00, v01, v02] t)) (.cells #[v10, v11, v12] t)
  have g1 : (((w.alloc (.cells #[v00, v01, v02] t)).alloc (.cells #[v10, v11, v12] t)).alloc (.cells #[v20, v21, v22] t)).heap[w.heap.size + 1]? = some (.cells #[v10, v11, v12] t) := by
    rw [Below.heap_alloc _ _ _ (by simp; try omega)]
    simpa using e1
  have e2 := heap_alloc_new ((w.alloc (.cells #[v00, v01, v02] t)).alloc (.cells #[v10, v11, v12] t)) (.cells #[v20, v21, v22] t)
  have g2 : (((w.alloc (.cells #[v00, v01, v02] t)).alloc (.cells #[v10, v11, v12] t)).alloc (.cells #[v20, v21, v22] t)).heap[w.heap.size + 1 + 1]? = some (.cells #[v20, v21, v22] t) := by
    simpa using e2
  refine ⟨⟨?_, ?_, ?_, ?_, ?_, ?_, ?_, ?_, ?_, Below.refl _ _⟩, ?_, ?_⟩
  · unfold World.cell?; rw [g0]; rfl
  · unfold World.cell?; rw [g0]; rfl
  · unfold World.cell?; rw [g0]; rfl
  · unfold World.cell?; rw [g1]; rfl
  · unfold World.cell?; rw [g1]; rfl
  · unfold World.cell?; rw [g1]; rfl
  · unfold World.cell?; rw [g2]; rfl
  · unfold World.cell?; rw [g2]; rfl
  · unfold World.cell?; rw [g2]; rfl
  · exact ((((Below.refl _ w).alloc (by simp; try omega) _).alloc (by simp; try omega) _).alloc (by simp; try omega) _)
  · simp

set_option maxRecDepth 100000 in
set_option maxHeartbeats 8000000 in
theorem walkIntegerRings (w : World) (ng0 : Bool) (D0 : ByteArray) (nn0 : Nat) (hD0 : D0.size ≤ maxLen) (hn0 : nn0 < 65536) (ng1 : Bool) (D1 : ByteArray) (nn1 : Nat) (hD1 : D1.size ≤ maxLen) (hn1 : nn1 < 65536) (ng2 : Bool) (D2 : ByteArray) (nn2 : Nat) (hD2 : D2.size ≤ maxLen) (hn2 : nn2 < 65536) :
    Calls Try.prog 7 #[.agg #[.bool ng0, .string D0, .int .u16 (nn0 : Int)], .agg #[.bool ng1, .string D1, .int .u16 (nn1 : Int)], .agg #[.bool ng2, .string D2, .int .u16 (nn2 : Int)]] w (TrueP w) := by
  have HT0 := Lib.hid (fun W => lawtext_any ng0 D0 nn0 hD0 hn0 W)
  have HT1 := Lib.hid (fun W => lawtext_any ng1 D1 nn1 hD1 hn1 W)
  have HT2 := Lib.hid (fun W => lawtext_any ng2 D2 nn2 hD2 hn2 W)
  have HF : Hid (∀ w', Below w.heap.size w w' → TrueP w (.returned (.bool true)) w') := Lib.hid fun w' h => ⟨rfl, h⟩
  clear hD0 hD1 hD2 hn0 hn1 hn2
  generalize TrueP w = Po at *
  go_enter Try.func7, Try.ntmps7
  go_wp2_with fail
  obtain ⟨hst, hbw, hN⟩ := nb3_start w 36 (.bool ng0) (.string D0) (.int .u16 (nn0 : Int)) (.bool ng1) (.string D1) (.int .u16 (nn1 : Int)) (.bool ng2) (.string D2) (.int .u16 (nn2 : Int)) w.heap.size rfl _ rfl
  generalize ((w.alloc (.cells #[.bool ng0, .string D0, .int .u16 (nn0 : Int)] 36)).alloc (.cells #[.bool ng1, .string D1, .int .u16 (nn1 : Int)] 36)).alloc (.cells #[.bool ng2, .string D2, .int .u16 (nn2 : Int)] 36) = W0 at *
  generalize hn0 : w.heap.size = n at *
  have hnh := Lib.hid hn0
  clear hn0
  have hNh := Lib.hid hN
  have hbwh := Lib.hid hbw
  clear hN hbw
  have hS1 : W0.cell? ⟨n, 0, none⟩ = some (Value.bool ng0) ∧ W0.cell? ⟨n, 1, none⟩ = some (Value.string D0) ∧ W0.cell? ⟨n, 2, none⟩ = some (Value.int .u16 (nn0 : Int)) ∧ W0.cell? ⟨n + 1, 0, none⟩ = some (Value.bool ng1) ∧ W0.cell? ⟨n + 1, 1, none⟩ = some (Value.string D1) ∧ W0.cell? ⟨n + 1, 2, none⟩ = some (Value.int .u16 (nn1 : Int)) ∧ W0.cell? ⟨n + 1 + 1, 0, none⟩ = some (Value.bool ng2) ∧ W0.cell? ⟨n + 1 + 1, 1, none⟩ = some (Value.string D2) ∧ W0.cell? ⟨n + 1 + 1, 2, none⟩ = some (Value.int .u16 (nn2 : Int)) ∧ Below (n + 1 + 1 + 1) W0 W0 := hst
  clear hst
  go_region_held3 (fun w' => w'.cell? ⟨n, 0, none⟩ = some (Value.bool ng0) ∧ w'.cell? ⟨n, 1, none⟩ = some (Value.string D0) ∧ w'.cell? ⟨n, 2, none⟩ = some (Value.int .u16 (nn0 : Int)) ∧ w'.cell? ⟨n + 1, 0, none⟩ = some (Value.bool ng1) ∧ w'.cell? ⟨n + 1, 1, none⟩ = some (Value.string D1) ∧ w'.cell? ⟨n + 1, 2, none⟩ = some (Value.int .u16 (nn1 : Int)) ∧ w'.cell? ⟨n + 1 + 1, 0, none⟩ = some (Value.bool ng2) ∧ w'.cell? ⟨n + 1 + 1, 1, none⟩ = some (Value.string D2) ∧ w'.cell? ⟨n + 1 + 1, 2, none⟩ = some (Value.int .u16 (nn2 : Int)) ∧ Below (n + 1 + 1 + 1) W0 w')
    (first | (with_reducible assumption) | (with_reducible exact nb3_drew (by assumption)) | (with_reducible exact nb3_keep (by assumption) hNh.out (by assumption)))
    (first | (go_at_call 17; (with_reducible refine (HT0.out _).mono ?_); rintro e w1 ⟨m0, hm0, rfl, hb1⟩) | (go_at_call 17; (with_reducible refine (HT1.out _).mono ?_); rintro e w2 ⟨m1, hm1, rfl, hb2⟩) | (go_at_call 17; (with_reducible refine (HT2.out _).mono ?_); rintro e w3 ⟨m2, hm2, rfl, hb3⟩))
  have HB0 : Hid (Below n w w3) := hbwh.out.trans ((((Below.refl _ W0).drew.trans hb1).trans (hb2.mono hb1.size)).trans (hb3.mono (Nat.le_trans hb1.size hb2.size)) |>.mono (by have := hNh.out; show n ≤ W0.heap.size; omega))
  have hx := sh_zi ng0 m0 hm0
  have hy := sh_zi ng1 m1 hm1
  have hz := sh_zi ng2 m2 hm2
  rename_i hHeld
  clear hHeld hS1 hb1 hb2 hb3 hm0 hm1 hm2 hNh hbwh HT0 HT1 HT2
  generalize zi ng0 m0 = x at *
  generalize zi ng1 m1 = y at *
  generalize zi ng2 m2 = z at *
  have HX := Lib.hid hx
  have HY := Lib.hid hy
  have HZ := Lib.hid hz
  clear hx hy hz
  go_wp2_with fail
  refine (AddU x y HX.out HY.out _).mono ?_
  rintro e u1 ⟨rfl, hu1⟩
  have HU1 : Hid (Below n w u1) := HB0.out.trans (hu1.mono (by have := HB0.out.size; have := hnh.out; omega))
  clear hu1
  have e1 := Lib.hid (AddU y x HY.out HX.out)
  rw [Int.add_comm y x] at e1
  go_wp2_with fail
  refine (e1.out _).mono ?_
  rintro e u2 ⟨rfl, hu2⟩
  have HU2 : Hid (Below n w u2) := HU1.out.trans (hu2.mono (by have := HU1.out.size; have := hnh.out; omega))
  clear hu2
  go_wp2_with fail
  refine (AddU y z HY.out HZ.out _).mono ?_
  rintro e u3 ⟨rfl, hu3⟩
  have HU3 : Hid (Below n w u3) := HU2.out.trans (hu3.mono (by have := HU2.out.size; have := hnh.out; omega))
  clear hu3
  by_cases h1 : Sh (x + y)
  · have h1v := Lib.hid (ov_yes h1)
    have h1e := Lib.hid (oe_yes h1)
    have H1 := Lib.hid h1
    rw [h1v.out, h1e.out]
    clear h1
    by_cases h2 : Sh (y + z)
    · have h2v := Lib.hid (ov_yes h2)
      have h2e := Lib.hid (oe_yes h2)
      have H2 := Lib.hid h2
      rw [h2v.out, h2e.out]
      clear h2
      go_wp2_with fail
      refine (AddU (x + y) z H1.out HZ.out _).mono ?_
      rintro e u4 ⟨rfl, hu4⟩
      have HU4 : Hid (Below n w u4) := HU3.out.trans (hu4.mono (by have := HU3.out.size; have := hnh.out; omega))
      clear hu4
      have e2 := Lib.hid (AddU x (y + z) HX.out H2.out)
      rw [← Int.add_assoc x y z] at e2
      go_wp2_with fail
      refine (e2.out _).mono ?_
      rintro e u5 ⟨rfl, hu5⟩
      have HU5 : Hid (Below n w u5) := HU4.out.trans (hu5.mono (by have := HU4.out.size; have := hnh.out; omega))
      clear hu5
      go_wp2_with fail
      refine (MulU x z HX.out HZ.out _).mono ?_
      rintro e u6 ⟨rfl, hu6⟩
      have HU6 : Hid (Below n w u6) := HU5.out.trans (hu6.mono (by have := HU5.out.size; have := hnh.out; omega))
      clear hu6
      go_wp2_with fail
      refine (MulU y z HY.out HZ.out _).mono ?_
      rintro e u7 ⟨rfl, hu7⟩
      have HU7 : Hid (Below n w u7) := HU6.out.trans (hu7.mono (by have := HU6.out.size; have := hnh.out; omega))
      clear hu7
      by_cases h3 : Sh (x * z)
      · have h3v := Lib.hid (ov_yes h3)
        have h3e := Lib.hid (oe_yes h3)
        have H3 := Lib.hid h3
        rw [h3v.out, h3e.out]
        clear h3
        by_cases h4 : Sh (y * z)
        · have h4v := Lib.hid (ov_yes h4)
          have h4e := Lib.hid (oe_yes h4)
          have H4 := Lib.hid h4
          rw [h4v.out, h4e.out]
          clear h4
          go_wp2_with fail
          refine (MulU (x + y) z H1.out HZ.out _).mono ?_
          rintro e u8 ⟨rfl, hu8⟩
          have HU8 : Hid (Below n w u8) := HU7.out.trans (hu8.mono (by have := HU7.out.size; have := hnh.out; omega))
          clear hu8
          have e3 := Lib.hid (AddU (x * z) (y * z) H3.out H4.out)
          rw [← Int.add_mul x y z] at e3
          go_wp2_with fail
          refine (e3.out _).mono ?_
          rintro e u9 ⟨rfl, hu9⟩
          have HU9 : Hid (Below n w u9) := HU8.out.trans (hu9.mono (by have := HU8.out.size; have := hnh.out; omega))
          clear hu9
          go_wp2_with fail
          refine (MulU (x * z) y H3.out HY.out _).mono ?_
          rintro e u10 ⟨rfl, hu10⟩
          have HU10 : Hid (Below n w u10) := HU9.out.trans (hu10.mono (by have := HU9.out.size; have := hnh.out; omega))
          clear hu10
          have e4 := Lib.hid (MulU x (y * z) HX.out H4.out)
          rw [show x * (y * z) = x * z * y by rw [Int.mul_comm y z, Int.mul_assoc]] at e4
          go_wp2_with fail
          refine (e4.out _).mono ?_
          rintro e u11 ⟨rfl, hu11⟩
          have HU11 : Hid (Below n w u11) := HU10.out.trans (hu11.mono (by have := HU10.out.size; have := hnh.out; omega))
          clear hu11
          have f1 := Lib.hid (MulU y x HY.out HX.out)
          rw [Int.mul_comm y x] at f1
          go_wp2_with fail
          refine (MulU x y HX.out HY.out _).mono ?_
          rintro e u12 ⟨rfl, hu12⟩
          have HU12 : Hid (Below n w u12) := HU11.out.trans (hu12.mono (by have := HU11.out.size; have := hnh.out; omega))
          clear hu12
          go_wp2_with fail
          refine (f1.out _).mono ?_
          rintro e u13 ⟨rfl, hu13⟩
          have HU13 : Hid (Below n w u13) := HU12.out.trans (hu13.mono (by have := HU12.out.size; have := hnh.out; omega))
          clear hu13
          go_wp2_with fail
          refine (awake_any _).mono ?_
          rintro e u14 ⟨rfl, hu14⟩
          have HU14 : Hid (Below n w u14) := HU13.out.trans (hu14.mono (by have := HU13.out.size; have := hnh.out; omega))
          clear hu14
          have hfin := Lib.hid (HF.out _ HU14.out)
          go_wp2
          exact hfin.out
        · have h4e := Lib.hid (oe_no h4)
          rw [h4e.out]
          clear h4
          have f1 := Lib.hid (MulU y x HY.out HX.out)
          rw [Int.mul_comm y x] at f1
          go_wp2_with fail
          refine (MulU x y HX.out HY.out _).mono ?_
          rintro e u15 ⟨rfl, hu15⟩
          have HU15 : Hid (Below n w u15) := HU7.out.trans (hu15.mono (by have := HU7.out.size; have := hnh.out; omega))
          clear hu15
          go_wp2_with fail
          refine (f1.out _).mono ?_
          rintro e u16 ⟨rfl, hu16⟩
          have HU16 : Hid (Below n w u16) := HU15.out.trans (hu16.mono (by have := HU15.out.size; have := hnh.out; omega))
          clear hu16
          go_wp2_with fail
          refine (awake_any _).mono ?_
          rintro e u17 ⟨rfl, hu17⟩
          have HU17 : Hid (Below n w u17) := HU16.out.trans (hu17.mono (by have := HU16.out.size; have := hnh.out; omega))
          clear hu17
          have hfin := Lib.hid (HF.out _ HU17.out)
          go_wp2
          exact hfin.out
      · have h3e := Lib.hid (oe_no h3)
        rw [h3e.out]
        clear h3
        have f1 := Lib.hid (MulU y x HY.out HX.out)
        rw [Int.mul_comm y x] at f1
        go_wp2_with fail
        refine (MulU x y HX.out HY.out _).mono ?_
        rintro e u18 ⟨rfl, hu18⟩
        have HU18 : Hid (Below n w u18) := HU7.out.trans (hu18.mono (by have := HU7.out.size; have := hnh.out; omega))
        clear hu18
        go_wp2_with fail
        refine (f1.out _).mono ?_
        rintro e u19 ⟨rfl, hu19⟩
        have HU19 : Hid (Below n w u19) := HU18.out.trans (hu19.mono (by have := HU18.out.size; have := hnh.out; omega))
        clear hu19
        go_wp2_with fail
        refine (awake_any _).mono ?_
        rintro e u20 ⟨rfl, hu20⟩
        have HU20 : Hid (Below n w u20) := HU19.out.trans (hu20.mono (by have := HU19.out.size; have := hnh.out; omega))
        clear hu20
        have hfin := Lib.hid (HF.out _ HU20.out)
        go_wp2
        exact hfin.out
    · have h2e := Lib.hid (oe_no h2)
      rw [h2e.out]
      clear h2
      have f1 := Lib.hid (MulU y x HY.out HX.out)
      rw [Int.mul_comm y x] at f1
      go_wp2_with fail
      refine (MulU x y HX.out HY.out _).mono ?_
      rintro e u21 ⟨rfl, hu21⟩
      have HU21 : Hid (Below n w u21) := HU3.out.trans (hu21.mono (by have := HU3.out.size; have := hnh.out; omega))
      clear hu21
      go_wp2_with fail
      refine (f1.out _).mono ?_
      rintro e u22 ⟨rfl, hu22⟩
      have HU22 : Hid (Below n w u22) := HU21.out.trans (hu22.mono (by have := HU21.out.size; have := hnh.out; omega))
      clear hu22
      go_wp2_with fail
      refine (awake_any _).mono ?_
      rintro e u23 ⟨rfl, hu23⟩
      have HU23 : Hid (Below n w u23) := HU22.out.trans (hu23.mono (by have := HU22.out.size; have := hnh.out; omega))
      clear hu23
      have hfin := Lib.hid (HF.out _ HU23.out)
      go_wp2
      exact hfin.out
  · have h1e := Lib.hid (oe_no h1)
    rw [h1e.out]
    clear h1
    have f1 := Lib.hid (MulU y x HY.out HX.out)
    rw [Int.mul_comm y x] at f1
    go_wp2_with fail
    refine (MulU x y HX.out HY.out _).mono ?_
    rintro e u24 ⟨rfl, hu24⟩
    have HU24 : Hid (Below n w u24) := HU3.out.trans (hu24.mono (by have := HU3.out.size; have := hnh.out; omega))
    clear hu24
    go_wp2_with fail
    refine (f1.out _).mono ?_
    rintro e u25 ⟨rfl, hu25⟩
    have HU25 : Hid (Below n w u25) := HU24.out.trans (hu25.mono (by have := HU24.out.size; have := hnh.out; omega))
    clear hu25
    go_wp2_with fail
    refine (awake_any _).mono ?_
    rintro e u26 ⟨rfl, hu26⟩
    have HU26 : Hid (Below n w u26) := HU25.out.trans (hu26.mono (by have := HU25.out.size; have := hnh.out; omega))
    clear hu26
    have hfin := Lib.hid (HF.out _ HU26.out)
    go_wp2
    exact hfin.out
end Go.Proofs.Ytmfohakcjmoiiaa
