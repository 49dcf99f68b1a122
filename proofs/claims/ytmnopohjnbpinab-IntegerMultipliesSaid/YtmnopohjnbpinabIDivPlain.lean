/-
  Helper: plain facts of division that rounds down.
-/
import Derived.Test.YtmnopohjnbpinabICmp
namespace Go.Proofs.Ytmnopohjnbpinab
set_option linter.unusedVariables false

theorem zi_t (n : Nat) : zi true n = -(n : Int) := rfl
theorem zi_f (n : Nat) : zi false n = (n : Int) := rfl
theorem div_core (x y : Int) (h0 : 0 < y.natAbs) : ∃ k m : Nat, m < y.natAbs ∧ y.natAbs * k + m = x.natAbs ∧
    ((neg x = neg y ∧ qI x y = (k : Int) ∧ rI x y = zi (neg y) m) ∨ (neg x ≠ neg y ∧ m = 0 ∧ qI x y = -(k : Int) ∧ rI x y = 0) ∨ (neg x ≠ neg y ∧ m ≠ 0 ∧ qI x y = -((k + 1 : Nat) : Int) ∧ rI x y = zi (neg y) (y.natAbs - m))) := by
  refine ⟨x.natAbs / y.natAbs, x.natAbs % y.natAbs, Nat.mod_lt _ h0, Nat.div_add_mod _ _, ?_⟩
  unfold qI rI QN RN
  by_cases h : neg x = neg y
  · left
    refine ⟨h, ?_, ?_⟩
    · rw [if_pos (.inl h), show (neg x != neg y) = false by rw [h]; simp, zi_f]
    · rw [if_pos (.inl h)]
  · right
    have hb : (neg x != neg y) = true := by simpa using h
    by_cases hm : x.natAbs % y.natAbs = 0
    · left
      refine ⟨h, hm, ?_, ?_⟩
      · rw [if_pos (.inr hm), hb, zi_t]
      · rw [if_pos (.inr hm), hm]; unfold zi; split <;> rfl
    · right
      refine ⟨h, hm, ?_, ?_⟩
      · rw [if_neg (by simp [h, hm]), hb, zi_t]
      · rw [if_neg (by simp [h, hm])]
theorem mul_side (y : Int) (k : Nat) : (neg y = true → (k : Int) * y = -((y.natAbs * k : Nat) : Int)) ∧ (neg y = false → (k : Int) * y = ((y.natAbs * k : Nat) : Int)) := by
  constructor
  · intro h
    have h := of_decide_eq_true h
    have e : (y.natAbs : Int) = -y := by omega
    rw [Int.natCast_mul, e, Int.mul_comm, Int.neg_mul, Int.neg_neg]
  · intro h
    have h := of_decide_eq_false h
    have e : (y.natAbs : Int) = y := by omega
    rw [Int.natCast_mul, e, Int.mul_comm]
/-- the product of the quotient and the divisor, in linear terms -/
theorem div_lin (x y : Int) (h0 : 0 < y.natAbs) : ∃ (k m P : Nat) (q r p : Int), q = qI x y ∧ r = rI x y ∧ p = qI x y * y ∧ m < y.natAbs ∧ P + m = x.natAbs ∧ k ≤ P ∧ (k = 0 → P = 0) ∧ (k ≠ 0 → y.natAbs ≤ P) ∧ (2 ≤ y.natAbs → 2 * k ≤ P) ∧
    ((x < 0 ∧ y < 0 ∧ q = k ∧ r = -(m : Int) ∧ p = -(P : Int)) ∨ (0 ≤ x ∧ 0 ≤ y ∧ q = k ∧ r = m ∧ p = P) ∨ (x < 0 ∧ 0 ≤ y ∧ m = 0 ∧ q = -(k : Int) ∧ r = 0 ∧ p = -(P : Int)) ∨ (0 ≤ x ∧ y < 0 ∧ m = 0 ∧ q = -(k : Int) ∧ r = 0 ∧ p = P) ∨
     (x < 0 ∧ 0 ≤ y ∧ m ≠ 0 ∧ q = -(k : Int) - 1 ∧ r = y - m ∧ p = -(P : Int) - y) ∨ (0 ≤ x ∧ y < 0 ∧ m ≠ 0 ∧ q = -(k : Int) - 1 ∧ r = y + m ∧ p = (P : Int) - y)) := by
  obtain ⟨k, m, hm, hP, hc⟩ := div_core x y h0
  obtain ⟨s1, s2⟩ := mul_side y k
  have hk : k ≤ y.natAbs * k := Nat.le_mul_of_pos_left k h0
  have hk0 : k = 0 → y.natAbs * k = 0 := fun h => by rw [h]; rfl
  have hk1 : k ≠ 0 → y.natAbs ≤ y.natAbs * k := fun h => Nat.le_mul_of_pos_right _ (by omega)
  have hk2 : 2 ≤ y.natAbs → 2 * k ≤ y.natAbs * k := fun h => Nat.mul_le_mul_right k h
  have hnx : neg x = decide (x < 0) := rfl
  have hny : neg y = decide (y < 0) := rfl
  refine ⟨k, m, y.natAbs * k, _, _, _, rfl, rfl, rfl, hm, hP, hk, hk0, hk1, hk2, ?_⟩
  generalize y.natAbs * k = P at *
  by_cases hx : x < 0 <;> by_cases hy : y < 0
  · have hy1 : neg y = true := decide_eq_true hy
    have hx1 : neg x = true := decide_eq_true hx
    rcases hc with ⟨_, hq, hr⟩ | ⟨g, _⟩ | ⟨g, _⟩
    · left
      rw [hq, hr, hy1, s1 hy1, zi_t]
      exact ⟨hx, hy, rfl, rfl, rfl⟩
    · exact absurd (hx1.trans hy1.symm) g
    · exact absurd (hx1.trans hy1.symm) g
  · have hy1 : neg y = false := decide_eq_false hy
    have hx1 : neg x = true := decide_eq_true hx
    rcases hc with ⟨g, _⟩ | ⟨_, h2, hq, hr⟩ | ⟨_, h2, hq, hr⟩
    · rw [hx1, hy1] at g; cases g
    · right; right; left
      rw [hq, hr, Int.neg_mul, s2 hy1]
      exact ⟨hx, by omega, h2, rfl, rfl, rfl⟩
    · right; right; right; right; left
      rw [hq, hr, hy1, Int.neg_mul, Int.natCast_add, Int.add_mul, s2 hy1, zi_f]
      refine ⟨hx, by omega, h2, by omega, by omega, by omega⟩
  · have hy1 : neg y = true := decide_eq_true hy
    have hx1 : neg x = false := decide_eq_false hx
    rcases hc with ⟨g, _⟩ | ⟨_, h2, hq, hr⟩ | ⟨_, h2, hq, hr⟩
    · rw [hx1, hy1] at g; cases g
    · right; right; right; left
      rw [hq, hr, Int.neg_mul, s1 hy1]
      exact ⟨by omega, hy, h2, rfl, rfl, by omega⟩
    · right; right; right; right; right
      rw [hq, hr, hy1, Int.neg_mul, Int.natCast_add, Int.add_mul, s1 hy1, zi_t]
      refine ⟨by omega, hy, h2, by omega, by omega, by omega⟩
  · have hy1 : neg y = false := decide_eq_false hy
    have hx1 : neg x = false := decide_eq_false hx
    rcases hc with ⟨_, hq, hr⟩ | ⟨g, _⟩ | ⟨g, _⟩
    · right; left
      rw [hq, hr, hy1, s2 hy1, zi_f]
      exact ⟨by omega, by omega, rfl, rfl, rfl⟩
    · exact absurd (hx1.trans hy1.symm) g
    · exact absurd (hx1.trans hy1.symm) g
theorem div_back (x y : Int) (h0 : 0 < y.natAbs) : qI x y * y + rI x y = x := by
  obtain ⟨k, m, P, q, r, p, hq, hr, hp, hm, hP, _, _, _, _, hc⟩ := div_lin x y h0
  rw [← hr, ← hp]
  rcases hc with ⟨a, b, c, d, e⟩ | ⟨a, b, c, d, e⟩ | ⟨a, b, _, c, d, e⟩ | ⟨a, b, _, c, d, e⟩ | ⟨a, b, _, c, d, e⟩ | ⟨a, b, _, c, d, e⟩ <;> omega
theorem div_quo (x y : Int) (h0 : 0 < y.natAbs) : (qI x y).natAbs ≤ x.natAbs := by
  obtain ⟨k, m, P, q, r, p, hq, hr, hp, hm, hP, h1, h2, h3, h4, hc⟩ := div_lin x y h0
  rw [← hq]
  rcases hc with ⟨a, b, c, d, e⟩ | ⟨a, b, c, d, e⟩ | ⟨a, b, _, c, d, e⟩ | ⟨a, b, _, c, d, e⟩ | ⟨a, b, g, c, d, e⟩ | ⟨a, b, g, c, d, e⟩
  · omega
  · omega
  · omega
  · omega
  · have := h4 (by omega); omega
  · have := h4 (by omega); omega
theorem div_rem (x y : Int) (h0 : 0 < y.natAbs) : (rI x y).natAbs < y.natAbs ∧ (rI x y = 0 ∨ (rI x y < 0 ∧ y < 0) ∨ (0 < rI x y ∧ 0 < y)) := by
  obtain ⟨k, m, P, q, r, p, hq, hr, hp, hm, hP, h1, h2, h3, h4, hc⟩ := div_lin x y h0
  rw [← hr]
  rcases hc with ⟨a, b, c, d, e⟩ | ⟨a, b, c, d, e⟩ | ⟨a, b, _, c, d, e⟩ | ⟨a, b, _, c, d, e⟩ | ⟨a, b, g, c, d, e⟩ | ⟨a, b, g, c, d, e⟩ <;> omega
theorem div_size (x y : Int) (h0 : 0 < y.natAbs) : (qI x y * y).natAbs ≤ x.natAbs ∨ (qI x y * y).natAbs = y.natAbs ∨ (qI x y * y).natAbs ≤ 2 * x.natAbs := by
  obtain ⟨k, m, P, q, r, p, hq, hr, hp, hm, hP, h1, h2, h3, h4, hc⟩ := div_lin x y h0
  rw [← hp]
  by_cases hk : k = 0
  · have := h2 hk
    rcases hc with ⟨a, b, c, d, e⟩ | ⟨a, b, c, d, e⟩ | ⟨a, b, _, c, d, e⟩ | ⟨a, b, _, c, d, e⟩ | ⟨a, b, g, c, d, e⟩ | ⟨a, b, g, c, d, e⟩ <;> omega
  · have := h3 hk
    rcases hc with ⟨a, b, c, d, e⟩ | ⟨a, b, c, d, e⟩ | ⟨a, b, _, c, d, e⟩ | ⟨a, b, _, c, d, e⟩ | ⟨a, b, g, c, d, e⟩ | ⟨a, b, g, c, d, e⟩ <;> omega

theorem sh_q {x y : Int} (hx : Sh x) (h0 : 0 < y.natAbs) : Sh (qI x y) := by
  unfold Sh at *; exact Nat.le_trans (E_len_mono 10 _ _ (by omega) (div_quo x y h0)) hx
theorem sh_r {x y : Int} (hy : Sh y) (h0 : 0 < y.natAbs) : Sh (rI x y) := by
  unfold Sh at *; exact Nat.le_trans (E_len_mono 10 _ _ (by omega) (Nat.le_of_lt (div_rem x y h0).1)) hy
theorem sh_d {x y : Int} (hy : Sh y) (h0 : 0 < y.natAbs) : Sh (rI x y + -y) := by
  unfold Sh at *; exact Nat.le_trans (E_len_mono 10 _ y.natAbs (by omega) (by have := div_rem x y h0; omega)) hy
theorem cmp_d (x y : Int) (h0 : 0 < y.natAbs) : cmpZ (rI x y + -y) 0 = -(cmpZ y 0) := by
  have := div_rem x y h0
  unfold cmpZ
  by_cases hy : y < 0
  · rw [if_neg (by omega), if_neg (by omega), if_pos hy]; rfl
  · rw [if_pos (by omega), if_neg hy, if_neg (by omega)]
theorem cmp_r (x y : Int) (h0 : 0 < y.natAbs) : cmpZ (rI x y) 0 = 0 ∨ (cmpZ (rI x y) 0 = cmpZ y 0 ∧ cmpZ y 0 ≠ 0) := by
  have := div_rem x y h0
  unfold cmpZ
  by_cases hr : rI x y = 0
  · left; rw [if_neg (by omega), if_pos hr]
  · right
    by_cases hy : y < 0
    · rw [if_pos (by omega), if_pos hy]; exact ⟨rfl, by decide⟩
    · rw [if_neg (by omega), if_neg hr, if_neg hy, if_neg (by omega)]; exact ⟨rfl, by decide⟩
theorem len_succ (n k : Nat) : (E 10 n).length ≤ k + 1 ↔ n < 10 ^ k * 10 := by rw [E_len_le 10 n (k + 1) (by omega), Nat.pow_succ]
theorem long_pow : ∃ t : Nat, (∀ z : Int, Sh z ↔ z.natAbs < t * 10) ∧ ∀ n, (E 10 n).length ≤ 399 → n < t := ⟨10 ^ 399, fun z => len_succ z.natAbs 399, fun n h => (E_len_le 10 n 399 (by omega)).1 h⟩
theorem sh_zero : Sh 0 := by unfold Sh; decide
theorem TB_zero : TB 0 = ⟨#[48]⟩ := by decide
theorem TB_only (z : Int) (h : TB z = ⟨#[48]⟩) : z = 0 := by
  refine T_inj ?_
  rw [← TB_list z, h]; decide
theorem TB_size_ge (z : Int) : (E 10 z.natAbs).length ≤ (TB z).size := by
  show _ ≤ (T z).length
  unfold T Tb body
  rw [List.length_append]
  by_cases h : z.natAbs = 0
  · rw [h, E_zero]; simp
  · rw [if_neg h]; simp
theorem TB_le (z : Int) (h : Sh z) : (TB z).size ≤ maxLen := by
  show (T z).length ≤ _
  unfold Sh at h
  unfold T Tb body maxLen
  rw [List.length_append]
  split <;> split <;> simp <;> omega
theorem div_long {x y : Int} (hx : Sh x) (hy : Sh y) (h0 : 0 < y.natAbs) (h : ¬ Sh (qI x y * y)) : 400 ≤ (TB x).size := by
  refine Nat.le_trans ?_ (TB_size_ge x)
  obtain ⟨t, ht, ht2⟩ := long_pow
  rw [ht] at hx hy h
  have hc := div_size x y h0
  by_cases g : (E 10 x.natAbs).length ≤ 399
  · have g1 := ht2 _ g
    omega
  · omega
end Go.Proofs.Ytmnopohjnbpinab
