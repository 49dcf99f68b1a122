/-
  Helper: a written text is read back: the whole.
-/
import Derived.Test.YtckeefjmamggmaaDoorInBack
namespace Go.Proofs.YtckeefjmamggmaaDoor
open Go.RowKit
set_option linter.unusedVariables false

theorem join3 (x y z : List UInt8) (m : UInt8) (r : List UInt8) : Lib.join [x, y, z] [m] ++ r = x ++ (m :: (y ++ (m :: (z ++ r)))) := by simp [Lib.join, List.intercalate]
/-- the fields of a text are small enough to be written -/
def Small (f : List Nat) : Prop := f.getD 0 0 ≤ 9999 ∧ f.getD 1 0 ≤ 99 ∧ f.getD 2 0 ≤ 99 ∧ f.getD 3 0 ≤ 99 ∧ f.getD 4 0 ≤ 99 ∧ f.getD 5 0 ≤ 99
theorem IR.small {sh : Nat} {f : List Nat} (h : IR sh f) : Small f := by
  have h0 := h.1 0 (by omega)
  have h1 := h.1 1 (by omega)
  have h2 := h.1 2 (by omega)
  have h3 := h.1 3 (by omega)
  have h4 := h.1 4 (by omega)
  have h5 := h.1 5 (by omega)
  have l0 : lim 0 = 9999 := rfl
  have l1 : lim 1 = 12 := rfl
  have l2 : lim 2 = 31 := rfl
  have l3 : lim 3 = 23 := rfl
  have l4 : lim 4 = 59 := rfl
  have l5 : lim 5 = 59 := rfl
  exact ⟨by omega, by omega, by omega, by omega, by omega, by omega⟩
theorem not_colon (Y R : List UInt8) (n : Nat) (h : IsPad Y 4 n) : ¬ (3 ≤ (Y ++ R).length ∧ (Y ++ R).getD 2 0 = 58) := by
  rintro ⟨_, h2⟩
  have hl := h.1
  have h3 : (Y ++ R).getD 2 0 = Y[2] := by
    rw [List.getD_eq_getElem?_getD, List.getElem?_append_left (by omega), List.getElem?_eq_getElem (by omega)]; rfl
  have h4 := h.2.1 Y[2] (List.getElem_mem _)
  rw [← h3, h2] at h4
  exact absurd h4 (by decide)
/-- the fields that a date and a time write -/
def f6 (f : List Nat) : List Nat := [f.getD 0 0, f.getD 1 0, f.getD 2 0, f.getD 3 0, f.getD 4 0, f.getD 5 0, 0, 0]
def f3 (f : List Nat) : List Nat := [f.getD 0 0, f.getD 1 0, f.getD 2 0, 0, 0, 0, 0, 0]
def f2 (f : List Nat) : List Nat := [0, 0, 0, f.getD 3 0, f.getD 4 0, f.getD 5 0, 0, 0]
theorem rd_date_part (f : List Nat) (hs : Small f) (R : List UInt8) : ∃ q, grpF (wrL f 0 3 [45] ++ R) 45 0 3 0 0 z8 = (true, q, f3 f) ∧ (wrL f 0 3 [45] ++ R).drop q = R ∧ q ≤ (wrL f 0 3 [45] ++ R).length ∧ ¬ (3 ≤ (wrL f 0 3 [45] ++ R).length ∧ (wrL f 0 3 [45] ++ R).getD 2 0 = 58) := by
  obtain ⟨s0, s1, s2, _⟩ := hs
  have hw : wrL f 0 3 [45] = Lib.join [padL (f.getD 0 0) 4, padL (f.getD 1 0) 2, padL (f.getD 2 0) 2] [45] := rfl
  have p0 := pad_is (f.getD 0 0) 4 (by omega) (by omega)
  have p1 := pad_is (f.getD 1 0) 2 (by omega) (by omega)
  have p2 := pad_is (f.getD 2 0) 2 (by omega) (by omega)
  rw [hw, join3]
  generalize padL (f.getD 0 0) 4 = X at *
  generalize padL (f.getD 1 0) 2 = Y at *
  generalize padL (f.getD 2 0) 2 = Z at *
  obtain ⟨q, h1, h2, h3, _⟩ := grp_three (X ++ (45 :: (Y ++ (45 :: (Z ++ R))))) 45 0 0 z8 X Y Z R _ _ _ rfl p0 p1 p2
  exact ⟨q, h1, h2, h3, not_colon X _ _ p0⟩
theorem rd_time_part (l : List UInt8) (p : Nat) (g : List Nat) (f : List Nat) (hs : Small f) (R : List UInt8) (h : l.drop p = wrL f 3 3 [58] ++ R) :
    ∃ q, grpF l 58 3 3 3 p g = (true, q, ((g.set 3 (f.getD 3 0)).set 4 (f.getD 4 0)).set 5 (f.getD 5 0)) ∧ l.drop q = R ∧ q ≤ l.length := by
  obtain ⟨_, _, _, s0, s1, s2⟩ := hs
  have hw : wrL f 3 3 [58] = Lib.join [padL (f.getD 3 0) 2, padL (f.getD 4 0) 2, padL (f.getD 5 0) 2] [58] := rfl
  have p0 := pad_is (f.getD 3 0) 2 (by omega) (by omega)
  have p1 := pad_is (f.getD 4 0) 2 (by omega) (by omega)
  have p2 := pad_is (f.getD 5 0) 2 (by omega) (by omega)
  rw [hw, join3] at h
  obtain ⟨q, h1, h2, h3, _⟩ := grp_three l 58 3 p g _ _ _ R _ _ _ h p0 p1 p2
  exact ⟨q, h1, h2, h3⟩
theorem rd_both (f : List Nat) (na : Nat) (tl : List UInt8) (hs : Small f) (hna : na ≤ 999999999) (ht : tl = [] ∨ tl = [90]) (sh : Nat) (h1 : sh ≠ 1) (h2 : sh ≠ 2) : rd (canL sh f na ++ tl) = (true, 3, f6 f, na, zoneOf tl) := by
  have hc : canL sh f na ++ tl = wrL f 0 3 [45] ++ (84 :: (wrL f 3 3 [58] ++ (frL na ++ tl))) := by
    unfold canL; rw [if_neg h1, if_neg h2]; simp
  obtain ⟨q, g1, g2, g3, g4⟩ := rd_date_part f hs (84 :: (wrL f 3 3 [58] ++ (frL na ++ tl)))
  rw [← hc] at g1 g2 g3 g4
  generalize canL sh f na ++ tl = l at *
  obtain ⟨c1, c2, c3⟩ := at_cons l q _ _ g2
  obtain ⟨q2, t1, t2, t3⟩ := rd_time_part l (q + 1) (f3 f) f hs _ c3
  have e1 : rd l = rdD l := by unfold rd; rw [if_neg g4]
  have e2 : rdD l = rdT l 1 (f3 f) (q + 1) := by
    unfold rdD; rw [g1, if_pos rfl]
    show (if q < l.length ∧ l.getD q 0 ∈ [84, 32] then rdT l 1 (f3 f) (q + 1) else _) = _
    rw [if_pos ⟨c1, by rw [c2]; decide⟩]
  have e3 : rdT l 1 (f3 f) (q + 1) = rdF l 3 (f6 f) q2 := by
    unfold rdT; rw [t1, if_pos rfl]; rfl
  rw [e1, e2, e3, rdF_back l 3 (f6 f) na q2 tl t2 t3 hna ht]
theorem rd_date (f : List Nat) (na : Nat) (hs : Small f) : rd (canL 1 f na) = (true, 1, f3 f, 0, 0) := by
  have hc : canL 1 f na = wrL f 0 3 [45] ++ [] := by
    unfold canL; rw [if_pos rfl]; simp
  obtain ⟨q, g1, g2, g3, g4⟩ := rd_date_part f hs []
  rw [← hc] at g1 g2 g3 g4
  generalize canL 1 f na = l at *
  have e1 : rd l = rdD l := by unfold rd; rw [if_neg g4]
  have hl : l.length ≤ q := by
    have := congrArg List.length g2
    rw [List.length_drop, List.length_nil] at this; omega
  have e2 : rdD l = (decide (q = l.length), 1, f3 f, 0, 0) := by
    unfold rdD; rw [g1, if_pos rfl]
    show (if q < l.length ∧ l.getD q 0 ∈ [84, 32] then _ else (decide (q = l.length), 1, f3 f, 0, 0)) = _
    rw [if_neg (by rintro ⟨h, _⟩; omega)]
  rw [e1, e2, decide_eq_true (by omega : q = l.length)]
theorem rd_time (f : List Nat) (na : Nat) (hs : Small f) (hna : na ≤ 999999999) : rd (canL 2 f na) = (true, 2, f2 f, na, 0) := by
  have hc : canL 2 f na = wrL f 3 3 [58] ++ (frL na ++ []) := by
    unfold canL; rw [if_neg (by omega), if_pos rfl]; simp
  obtain ⟨q2, t1, t2, t3⟩ := rd_time_part (canL 2 f na) 0 z8 f hs (frL na ++ []) hc
  have h58 : 3 ≤ (canL 2 f na).length ∧ (canL 2 f na).getD 2 0 = 58 := by
    have hw : wrL f 3 3 [58] = Lib.join [padL (f.getD 3 0) 2, padL (f.getD 4 0) 2, padL (f.getD 5 0) 2] [58] := rfl
    have p0 := pad_is (f.getD 3 0) 2 (by omega) (by have := hs.2.2.2.1; omega)
    rw [hc, hw, join3]
    generalize padL (f.getD 3 0) 2 = X at *
    have hX := p0.1
    refine ⟨by rw [List.length_append, List.length_cons]; omega, ?_⟩
    rw [List.getD_eq_getElem?_getD, List.getElem?_append_right (by omega), hX]; rfl
  generalize canL 2 f na = l at *
  have e1 : rd l = rdT l 0 z8 0 := by unfold rd; rw [if_pos h58]
  have e3 : rdT l 0 z8 0 = rdF l 2 (f2 f) q2 := by
    unfold rdT; rw [t1, if_pos rfl]; rfl
  rw [e1, e3, rdF_back l 2 (f2 f) na q2 [] t2 t3 hna (.inl rfl)]; rfl
end Go.Proofs.YtckeefjmamggmaaDoor
