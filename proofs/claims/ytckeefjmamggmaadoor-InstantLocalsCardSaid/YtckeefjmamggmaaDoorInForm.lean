/-
  Helper: the form of an instant text, from what read answers, and back.
-/
import Derived.Test.YtckeefjmamggmaaDoorInLawS
namespace Go.Proofs.YtckeefjmamggmaaDoor
open Go.RowKit
set_option linter.unusedVariables false

theorem rn_inv (l : List UInt8) (p w : Nat) (h : ¬ rn l p w < w) : ((l.drop p).take w).length = w ∧ (∀ c ∈ (l.drop p).take w, isD c = true) ∧ rn l p w = w := by
  have h1 : rn l p w ≤ ((l.drop p).take w).length := tw_len _
  have h2 : ((l.drop p).take w).length ≤ w := by rw [List.length_take]; omega
  have h3 : rn l p w = w := by omega
  refine ⟨by omega, fun c hc => ?_, h3⟩
  refine ext_digs ⟨l.toArray⟩ p w c ?_
  show c ∈ (l.drop p).take (rn l p w)
  rw [h3]; exact hc
theorem drop_at (l : List UInt8) (p : Nat) (h : p < l.length) : l.drop p = l.getD p 0 :: l.drop (p + 1) := by
  rw [List.drop_eq_getElem_cons h, List.getD_eq_getElem?_getD, List.getElem?_eq_getElem h]; rfl
theorem drop_split (l : List UInt8) (p w : Nat) : l.drop p = (l.drop p).take w ++ l.drop (p + w) := by
  rw [← List.drop_drop, List.take_append_drop]
theorem grp_first_inv (l : List UInt8) (mk : UInt8) (first n p : Nat) (f : List Nat) (h : (grpF l mk first (n + 1) first p f).1 = true) :
    ∃ X v, l.drop p = X ++ l.drop (p + wid first) ∧ IsPad X (wid first) v ∧ grpF l mk first (n + 1) first p f = grpF l mk first n (first + 1) (p + wid first) (f.set first v) := by
  have e : grpF l mk first (n + 1) first p f = if rn l p (wid first) < wid first then (false, p + rn l p (wid first), f) else grpF l mk first n (first + 1) (p + wid first) (f.set first (numv ((l.drop p).take (wid first)))) := by
    rw [grpF, if_neg (by omega)]
  rw [e] at h ⊢
  by_cases c : rn l p (wid first) < wid first
  · rw [if_pos c] at h; exact absurd h (by simp)
  · obtain ⟨i1, i2, i3⟩ := rn_inv l p _ c
    rw [if_neg c]
    exact ⟨_, _, drop_split l p (wid first), ⟨i1, i2, rfl⟩, rfl⟩
theorem grp_next_inv (l : List UInt8) (mk : UInt8) (first n fd p : Nat) (f : List Nat) (hf : first < fd) (h : (grpF l mk first (n + 1) fd p f).1 = true) :
    ∃ X v, l.drop p = mk :: (X ++ l.drop (p + 1 + wid fd)) ∧ IsPad X (wid fd) v ∧ grpF l mk first (n + 1) fd p f = grpF l mk first n (fd + 1) (p + 1 + wid fd) (f.set fd v) := by
  have e : grpF l mk first (n + 1) fd p f = if p < l.length ∧ l.getD p 0 = mk then (if rn l (p + 1) (wid fd) < wid fd then (false, p + 1 + rn l (p + 1) (wid fd), f) else grpF l mk first n (fd + 1) (p + 1 + wid fd) (f.set fd (numv ((l.drop (p + 1)).take (wid fd))))) else (false, p, f) := by
    rw [grpF, if_pos hf]
  rw [e] at h ⊢
  by_cases c0 : p < l.length ∧ l.getD p 0 = mk
  · rw [if_pos c0] at h ⊢
    by_cases c : rn l (p + 1) (wid fd) < wid fd
    · rw [if_pos c] at h; exact absurd h (by simp)
    · obtain ⟨i1, i2, i3⟩ := rn_inv l (p + 1) _ c
      rw [if_neg c]
      refine ⟨_, _, ?_, ⟨i1, i2, rfl⟩, rfl⟩
      rw [drop_at l p c0.1, c0.2, ← drop_split l (p + 1) (wid fd)]
  · rw [if_neg c0] at h; exact absurd h (by simp)
theorem grp_three_inv (l : List UInt8) (mk : UInt8) (first p : Nat) (f : List Nat) (h : (grpF l mk first 3 first p f).1 = true) :
    ∃ X1 X2 X3 v1 v2 v3 q, l.drop p = X1 ++ (mk :: (X2 ++ (mk :: (X3 ++ l.drop q)))) ∧ IsPad X1 (wid first) v1 ∧ IsPad X2 (wid (first + 1)) v2 ∧ IsPad X3 (wid (first + 2)) v3 ∧ grpF l mk first 3 first p f = (true, q, ((f.set first v1).set (first + 1) v2).set (first + 2) v3) := by
  obtain ⟨X1, v1, a1, b1, e1⟩ := grp_first_inv l mk first 2 p f h
  rw [e1] at h ⊢
  obtain ⟨X2, v2, a2, b2, e2⟩ := grp_next_inv l mk first 1 (first + 1) _ _ (by omega) h
  rw [e2] at h ⊢
  obtain ⟨X3, v3, a3, b3, e3⟩ := grp_next_inv l mk first 0 (first + 1 + 1) _ _ (by omega) h
  rw [e3]
  refine ⟨X1, X2, X3, v1, v2, v3, _, ?_, b1, b2, b3, rfl⟩
  rw [a1, a2, a3]
theorem grp_two_inv (l : List UInt8) (mk : UInt8) (first p : Nat) (f : List Nat) (h : (grpF l mk first 2 first p f).1 = true) :
    ∃ X1 X2 v1 v2 q, l.drop p = X1 ++ (mk :: (X2 ++ l.drop q)) ∧ IsPad X1 (wid first) v1 ∧ IsPad X2 (wid (first + 1)) v2 ∧ grpF l mk first 2 first p f = (true, q, (f.set first v1).set (first + 1) v2) := by
  obtain ⟨X1, v1, a1, b1, e1⟩ := grp_first_inv l mk first 1 p f h
  rw [e1] at h ⊢
  obtain ⟨X2, v2, a2, b2, e2⟩ := grp_next_inv l mk first 0 (first + 1) _ _ (by omega) h
  rw [e2]
  refine ⟨X1, X2, v1, v2, _, ?_, b1, b2, rfl⟩
  rw [a1, a2]
/-- a zone, what it leaves in the fields, and its mark -/
def IsZone (zn : List UInt8) : Prop := zn = [90] ∨ ∃ c X1 X2 v1 v2, (c = 43 ∨ c = 45) ∧ zn = c :: (X1 ++ 58 :: X2) ∧ IsPad X1 2 v1 ∧ IsPad X2 2 v2
def IsFr (fr : List UInt8) (na : Nat) : Prop := (fr = [] ∧ na = 0) ∨ ∃ T, fr = 46 :: T ∧ T.length ≠ 0 ∧ T.length ≤ 9 ∧ (∀ c ∈ T, isD c = true) ∧ na = numv (T ++ List.replicate (9 - T.length) 48)
theorem rdZ_inv (l : List UInt8) (sh : Nat) (f : List Nat) (na p : Nat) (h : (rdZ l sh f na p).1 = true) (hz : (rdZ l sh f na p).2.2.2.2 ≠ 0) : IsZone (l.drop p) ∧ (rdZ l sh f na p).2.1 = sh := by
  unfold rdZ at *
  split at h
  · rename_i c
    rw [if_pos c] at hz ⊢
    split at h
    · rename_i c2
      rw [if_pos c2]
      have hl : p + 1 = l.length := by simpa using h
      refine ⟨.inl ?_, rfl⟩
      rw [drop_at l p c.1, c2, List.drop_of_length_le (by omega)]
    · rename_i c2
      rw [if_neg c2]
      split at h
      · rename_i c3
        rw [if_pos c3]
        obtain ⟨X1, X2, v1, v2, q, a1, b1, b2, e1⟩ := grp_two_inv l 58 6 (p + 1) f c3
        rw [e1] at h
        have hl : q = l.length := by simpa using h
        refine ⟨.inr ⟨l.getD p 0, X1, X2, v1, v2, ?_, ?_, b1, b2⟩, rfl⟩
        · have hm := c.2
          simp only [List.mem_cons, List.not_mem_nil, or_false] at hm
          rcases hm with hm | hm | hm
          · exact absurd hm c2
          · exact .inl hm
          · exact .inr hm
        · rw [drop_at l p c.1, a1, hl, List.drop_length, List.append_nil]
      · exact absurd h (by decide)
  · rename_i c
    rw [if_neg c] at hz
    exact absurd rfl hz
theorem rdF_inv (l : List UInt8) (sh : Nat) (f : List Nat) (p : Nat) (h : (rdF l sh f p).1 = true) : ∃ fr na q, l.drop p = fr ++ l.drop q ∧ IsFr fr na ∧ rdF l sh f p = rdZ l sh f na q := by
  unfold rdF at *
  split at h
  · rename_i c
    rw [if_pos c]
    split at h
    · exact absurd h (by decide)
    · rename_i c2
      rw [if_neg c2]
      have h46 : l.getD p 0 = 46 := by simpa using c.2
      have hle : rn l (p + 1) 9 ≤ ((l.drop (p + 1)).take 9).length := tw_len _
      have hle2 : ((l.drop (p + 1)).take 9).length ≤ 9 := by rw [List.length_take]; omega
      have hle3 : ((l.drop (p + 1)).take 9).length ≤ (l.drop (p + 1)).length := by rw [List.length_take]; omega
      have hT : ((l.drop (p + 1)).take (rn l (p + 1) 9)).length = rn l (p + 1) 9 := by rw [List.length_take]; omega
      refine ⟨46 :: (l.drop (p + 1)).take (rn l (p + 1) 9), _, p + 1 + rn l (p + 1) 9, ?_, .inr ⟨_, rfl, by rw [hT]; exact c2, by rw [hT]; omega, ext_digs ⟨l.toArray⟩ (p + 1) 9, rfl⟩, by rw [hT]⟩
      rw [drop_at l p c.1, h46, List.cons_append, ← drop_split l (p + 1)]
  · rename_i c
    rw [if_neg c]
    exact ⟨[], 0, p, rfl, .inl ⟨rfl, rfl⟩, rfl⟩
/-- a date and a time -/
def Body (s : List UInt8) (f : List Nat) (na : Nat) : Prop := ∃ Y M D c H I S fr y m d h i k, s = Y ++ (45 :: (M ++ (45 :: (D ++ (c :: (H ++ (58 :: (I ++ (58 :: (S ++ fr)))))))))) ∧ IsPad Y 4 y ∧ IsPad M 2 m ∧ IsPad D 2 d ∧ IsPad H 2 h ∧ IsPad I 2 i ∧ IsPad S 2 k ∧ (c = 84 ∨ c = 32) ∧ IsFr fr na ∧ f = [y, m, d, h, i, k, 0, 0]
theorem rdT_shape (l : List UInt8) (sh : Nat) (f : List Nat) (p : Nat) (h : (rdT l sh f p).1 = true) : (rdT l sh f p).2.1 = sh + 2 := by
  have hz : ∀ (f : List Nat) na q, (rdZ l (sh + 2) f na q).1 = true → (rdZ l (sh + 2) f na q).2.1 = sh + 2 := fun f na q h => by
    unfold rdZ at *
    split at h
    · rename_i c; rw [if_pos c]
      split at h
      · rename_i c2; rw [if_pos c2]
      · rename_i c2; rw [if_neg c2]
        split at h
        · rename_i c3; rw [if_pos c3]
        · exact absurd h (by decide)
    · rename_i c; rw [if_neg c]
  unfold rdT at *
  split at h
  · rename_i c; rw [if_pos c]
    obtain ⟨fr, na, q, _, _, e⟩ := rdF_inv l _ _ _ h
    rw [e] at h ⊢
    exact hz _ _ _ h
  · exact absurd h (by decide)
theorem rd_inv (l : List UInt8) (h : (rd l).1 = true) (h3 : (rd l).2.1 = 3) (hz : (rd l).2.2.2.2 ≠ 0) : ∃ s f na zn, l = s ++ zn ∧ Body s f na ∧ IsZone zn := by
  unfold rd at *
  split at h
  · rename_i c
    rw [if_pos c] at h3
    have := rdT_shape l 0 z8 0 h
    omega
  rename_i c
  rw [if_neg c] at h3 hz
  unfold rdD at *
  split at h
  case isFalse => exact absurd h (by decide)
  rename_i c1
  rw [if_pos c1] at h3 hz
  split at h
  case isFalse => rename_i c2; rw [if_neg c2] at h3; exact absurd (show (1 : Nat) = 3 from h3) (by decide)
  rename_i c2
  rw [if_pos c2] at h3 hz
  obtain ⟨Y, M, D, y, m, d, q, a1, p1, p2, p3, e1⟩ := grp_three_inv l 45 0 0 z8 c1
  rw [e1] at h h3 hz c2
  replace c2 : q < l.length ∧ l.getD q 0 ∈ ([84, 32] : List UInt8) := c2
  replace h : (rdT l 1 (((z8.set 0 y).set (0 + 1) m).set (0 + 2) d) (q + 1)).1 = true := h
  replace hz : (rdT l 1 (((z8.set 0 y).set (0 + 1) m).set (0 + 2) d) (q + 1)).2.2.2.2 ≠ 0 := hz
  unfold rdT at h hz
  split at h
  case isFalse => exact absurd h (by decide)
  rename_i c3
  rw [if_pos c3] at hz
  obtain ⟨H, I, S, hh, i, k, q2, a2, p4, p5, p6, e2⟩ := grp_three_inv l 58 3 (q + 1) _ c3
  rw [e2] at h hz
  obtain ⟨fr, na, q3, a3, hfr, e3⟩ := rdF_inv l _ _ _ h
  rw [e3] at h hz
  obtain ⟨hzn, _⟩ := rdZ_inv l _ _ _ _ h hz
  refine ⟨Y ++ (45 :: (M ++ (45 :: (D ++ (l.getD q 0 :: (H ++ (58 :: (I ++ (58 :: (S ++ fr)))))))))), _, na, l.drop q3, ?_, ⟨Y, M, D, l.getD q 0, H, I, S, fr, y, m, d, hh, i, k, rfl, p1, p2, p3, p4, p5, p6, by simpa using c2.2, hfr, rfl⟩, hzn⟩
  have e0 : l = l.drop 0 := rfl
  rw [drop_at l q c2.1, a2] at a1
  replace a3 : l.drop q2 = fr ++ l.drop q3 := a3
  rw [a3] at a1
  refine (show l = l.drop 0 from rfl).trans (a1.trans ?_)
  simp only [List.append_assoc, List.cons_append]
end Go.Proofs.YtckeefjmamggmaaDoor
