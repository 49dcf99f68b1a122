/-
  Helper (plain): sums of digits.
-/
import Derived.Test.YtpankmaljafnnaaGreatDoorDcCmp
namespace Go.Proofs.YtpankmaljafnnaaGreatDoor
open Go.RowKit
set_option linter.unusedVariables false

theorem AD_spread {ds : List UInt8} (h : AD ds) (w d : Nat) : AD (spreadL ds w d) := by
  intro c hc
  unfold spreadL at hc
  rcases List.mem_append.1 hc with hc | hc
  · rcases List.mem_append.1 hc with hc | hc
    · rw [List.eq_of_mem_replicate hc]; decide
    · exact h c hc
  · rw [List.eq_of_mem_replicate hc]; decide
theorem numv_rep0 (k : Nat) : numv (List.replicate k 48) = 0 := numv_zeros _ fun c hc => List.eq_of_mem_replicate hc
theorem numv_spread (ds : List UInt8) (w d : Nat) : numv (spreadL ds w d) = numv ds * 10 ^ d := by
  unfold spreadL
  rw [numv_append, numv_append, numv_rep0, numv_rep0, List.length_replicate]; simp
theorem len_spread (ds : List UInt8) (w d : Nat) (h : ds.length + d ≤ w) : (spreadL ds w d).length = w := by unfold spreadL; simp; omega
theorem cmpL_num : ∀ (p q : List UInt8), AD p → AD q → p.length = q.length → cmpL p q = if numv p < numv q then -1 else if numv q < numv p then 1 else 0
  | [], [], _, _, _ => rfl
  | [], _ :: _, _, _, h => by simp at h
  | _ :: _, [], _, _, h => by simp at h
  | a :: p, b :: q, hp, hq, h => by
    have hl : p.length = q.length := by simpa using h
    have hp2 : AD p := fun c hc => hp c (by simp [hc])
    have hq2 : AD q := fun c hc => hq c (by simp [hc])
    have ha := hp a (by simp)
    have hb := hq b (by simp)
    have ih := cmpL_num p q hp2 hq2 hl
    have l1 := numv_lt p hp2
    have l2 := numv_lt q hq2
    rw [← hl] at l2
    unfold cmpL
    rw [numv_cons, numv_cons, ← hl]
    by_cases c1 : a.toNat < b.toNat
    · have : (a.toNat - 48 + 1) * 10 ^ p.length ≤ (b.toNat - 48) * 10 ^ p.length := Nat.mul_le_mul_right _ (by omega)
      rw [Nat.add_mul] at this
      rw [if_pos c1, if_pos (by omega)]
    · rw [if_neg c1]
      by_cases c2 : b.toNat < a.toNat
      · have : (b.toNat - 48 + 1) * 10 ^ p.length ≤ (a.toNat - 48) * 10 ^ p.length := Nat.mul_le_mul_right _ (by omega)
        rw [Nat.add_mul] at this
        rw [if_pos c2, if_neg (by omega), if_pos (by omega)]
      · have : a.toNat = b.toNat := by omega
        rw [if_neg c2, ih, this]
        simp only [Nat.add_lt_add_iff_left]
/-- the parts of a sum's walk: both numbers in one room -/
structure Rm (l1 l2 d1 d2 W : Nat) : Prop where
  a : l1 + d1 + 1 ≤ W
  b : l2 + d2 + 1 ≤ W
  c : W ≤ 20000
theorem sum_res (p q S : List UInt8) (W cy : Nat) (hp : AD p) (hq : AD q) (d1 d2 : Nat) (h1 : p.length + d1 + 1 ≤ W) (h2 : q.length + d2 + 1 ≤ W) (hS : S.length = W) (hA : AD S)
    (h : numv S + cy * 10 ^ W = numv (spreadL p W d1) + numv (spreadL q W d2)) : numv S = numv p * 10 ^ d1 + numv q * 10 ^ d2 := by
  rw [numv_spread, numv_spread] at h
  have b1 : numv p * 10 ^ d1 < 10 ^ (W - 1) := by
    have h3 := numv_lt p hp
    have h4 : numv p * 10 ^ d1 < 10 ^ p.length * 10 ^ d1 := Nat.mul_lt_mul_of_pos_right h3 (Nat.pow_pos (by omega))
    rw [← Nat.pow_add] at h4
    exact Nat.lt_of_lt_of_le h4 (Nat.pow_le_pow_right (by omega) (by omega))
  have b2 : numv q * 10 ^ d2 < 10 ^ (W - 1) := by
    have h3 := numv_lt q hq
    have h4 : numv q * 10 ^ d2 < 10 ^ q.length * 10 ^ d2 := Nat.mul_lt_mul_of_pos_right h3 (Nat.pow_pos (by omega))
    rw [← Nat.pow_add] at h4
    exact Nat.lt_of_lt_of_le h4 (Nat.pow_le_pow_right (by omega) (by omega))
  have hW : 10 ^ W = 10 ^ (W - 1) * 10 := by rw [← Nat.pow_succ]; congr 1; omega
  have : cy = 0 := by
    rcases Nat.eq_zero_or_pos cy with h0 | h0
    · exact h0
    · exfalso
      have : 1 * 10 ^ W ≤ cy * 10 ^ W := Nat.mul_le_mul_right _ h0
      omega
  rw [this] at h
  omega
theorem dif_res (p q S : List UInt8) (W cy : Nat) (hA : AD S) (hS : S.length = W) (d1 d2 : Nat) (hc : cy ≤ 1) (hle : numv q * 10 ^ d2 ≤ numv p * 10 ^ d1) (h : numv S + numv (spreadL q W d2) = numv (spreadL p W d1) + cy * 10 ^ W) : numv S = numv p * 10 ^ d1 - numv q * 10 ^ d2 := by
  rw [numv_spread, numv_spread] at h
  have h3 := numv_lt S hA
  rw [hS] at h3
  have : cy = 0 := by
    rcases Nat.eq_zero_or_pos cy with h0 | h0
    · exact h0
    · exfalso
      have : cy = 1 := by omega
      rw [this] at h
      omega
  rw [this] at h
  omega
theorem zi_sum (b : Bool) (m n : Nat) : zi b (m + n) = zi b m + zi b n := by
  unfold zi; cases b <;> simp <;> omega
theorem zi_dif (b : Bool) (m n : Nat) (h : n ≤ m) : zi b (m - n) = zi b m + zi (!b) n := by
  unfold zi; cases b <;> simp <;> omega
theorem zi_mul (b : Bool) (m k : Nat) : zi b (m * k) = zi b m * (k : Int) := by
  unfold zi; cases b
  · simp
  · simp [Int.neg_mul]
end Go.Proofs.YtpankmaljafnnaaGreatDoor
