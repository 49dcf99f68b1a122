/-
  Helper (plain): the order, the sums and the roundings of decimals as numbers in one unit.
-/
import Derived.Test.YtpankmaljafnnaaGreatDoorDcParts
namespace Go.Proofs.YtpankmaljafnnaaGreatDoor
open Go.RowKit
set_option linter.unusedVariables false
set_option linter.unusedSimpArgs false

/-- a decimal in units of 10 ^ -5000 -/
def VV (z e : Int) : Int := vD 5000 z e
/-- the answer for a number of units -/
def oV (V : Int) : ByteArray × Int := outD V (-(5000 : Nat) : Int)
theorem oV_of (z e : Int) (h : -5000 ≤ e) : outD z e = oV (VV z e) := out_V 5000 z e (by omega)
theorem sgI_neg {z : Int} (h : z < 0) : sgI z = -1 := if_pos h
theorem sgI_pos {z : Int} (h : 0 < z) : sgI z = 1 := by unfold sgI; rw [if_neg (by omega), if_pos h]
theorem sgI_zero {z : Int} (h : z = 0) : sgI z = 0 := by subst h; rfl
theorem sgI_opp (z : Int) : sgI (-z) = - sgI z := by
  rcases Int.lt_trichotomy z 0 with h | h | h
  · rw [sgI_neg h, sgI_pos (show 0 < -z by omega)]; rfl
  · rw [sgI_zero h, sgI_zero (show -z = 0 by omega)]; rfl
  · rw [sgI_pos h, sgI_neg (show -z < 0 by omega)]
theorem sgI_mulP (z : Int) (k : Nat) (hk : 0 < k) : sgI (z * (k : Int)) = sgI z := by
  have hk2 : (0 : Int) < (k : Int) := by omega
  rcases Int.lt_trichotomy z 0 with h | h | h
  · rw [sgI_neg h, sgI_neg (Int.mul_neg_of_neg_of_pos h hk2)]
  · rw [h, Int.zero_mul]
  · rw [sgI_pos h, sgI_pos (Int.mul_pos h hk2)]
theorem p10 (k : Nat) : 0 < 10 ^ k := Nat.pow_pos (by omega)
/-- no zero at the end -/
def NE (p : List UInt8) : Prop := p = [] ∨ numv p % 10 ≠ 0
theorem NE.tail {a : UInt8} {p : List UInt8} (h : NE (a :: p)) : NE p := by
  by_cases hp : p = []
  · exact .inl hp
  · refine .inr ?_
    have h1 : numv (a :: p) % 10 ≠ 0 := h.resolve_left (by simp)
    have h2 := List.length_pos_iff.2 hp
    obtain ⟨j, hj⟩ : ∃ j, p.length = j + 1 := ⟨p.length - 1, by omega⟩
    rw [numv_cons, hj, Nat.pow_succ, ← Nat.mul_assoc] at h1
    omega
theorem NE.pos {a : UInt8} {p : List UInt8} (h : NE (a :: p)) : 0 < numv (a :: p) := by
  have h1 : numv (a :: p) % 10 ≠ 0 := h.resolve_left (by simp)
  omega
theorem AD.tail {a : UInt8} {p : List UInt8} (h : AD (a :: p)) : AD p := fun d hd => h d (by simp [hd])
theorem cmpL_pad : ∀ (p q : List UInt8) (k1 k2 : Nat), AD p → AD q → NE p → NE q → p.length + k1 = q.length + k2 → cmpL p q = sgI (((numv p * 10 ^ k1 : Nat) : Int) - ((numv q * 10 ^ k2 : Nat) : Int))
  | [], [], k1, k2, _, _, _, _, _ => by
    have : numv [] = 0 := rfl
    rw [this, Nat.zero_mul, Nat.zero_mul]; rfl
  | [], b :: q, k1, k2, _, _, _, hq, _ => by
    have h0 : numv [] = 0 := rfl
    have h1 := Nat.mul_pos hq.pos (p10 k2)
    rw [h0, Nat.zero_mul]
    rw [sgI_neg (by omega)]; rfl
  | a :: p, [], k1, k2, _, _, hp, _, _ => by
    have h0 : numv [] = 0 := rfl
    have h1 := Nat.mul_pos hp.pos (p10 k1)
    rw [h0, Nat.zero_mul]
    rw [sgI_pos (by omega)]; rfl
  | a :: p, b :: q, k1, k2, hA, hB, hp, hq, hl => by
    have a1 := hA a (by simp)
    have b1 := hB b (by simp)
    have hl2 : p.length + k1 = q.length + k2 := by simp at hl; omega
    have ih := cmpL_pad p q k1 k2 hA.tail hB.tail hp.tail hq.tail hl2
    have lp := Nat.mul_lt_mul_of_pos_right (numv_lt p hA.tail) (p10 k1)
    have lq := Nat.mul_lt_mul_of_pos_right (numv_lt q hB.tail) (p10 k2)
    rw [← Nat.pow_add] at lp lq
    have e1 : numv (a :: p) * 10 ^ k1 = (a.toNat - 48) * 10 ^ (p.length + k1) + numv p * 10 ^ k1 := by rw [numv_cons, Nat.add_mul, Nat.mul_assoc, ← Nat.pow_add]
    have e2 : numv (b :: q) * 10 ^ k2 = (b.toNat - 48) * 10 ^ (q.length + k2) + numv q * 10 ^ k2 := by rw [numv_cons, Nat.add_mul, Nat.mul_assoc, ← Nat.pow_add]
    rw [e1, e2, ← hl2]
    rw [← hl2] at lq
    generalize 10 ^ (p.length + k1) = L at *
    generalize numv p * 10 ^ k1 = P at *
    generalize numv q * 10 ^ k2 = Q at *
    unfold cmpL
    by_cases c1 : a.toNat < b.toNat
    · rw [if_pos c1]
      have : (a.toNat - 48 + 1) * L ≤ (b.toNat - 48) * L := Nat.mul_le_mul_right _ (by omega)
      rw [Nat.add_mul, Nat.one_mul] at this
      rw [sgI_neg (by omega)]
    · rw [if_neg c1]
      by_cases c2 : b.toNat < a.toNat
      · rw [if_pos c2]
        have : (b.toNat - 48 + 1) * L ≤ (a.toNat - 48) * L := Nat.mul_le_mul_right _ (by omega)
        rw [Nat.add_mul, Nat.one_mul] at this
        rw [sgI_pos (by omega)]
      · rw [if_neg c2, ih]
        have : a.toNat = b.toNat := by omega
        rw [this]
        congr 1; omega
theorem body_up (n : Nat) : n < 10 ^ (body 10 n).length := by
  have := numv_lt (body 10 n) (body_AD n)
  rw [numv_body] at this
  exact this
theorem body_low (n : Nat) (h : n ≠ 0) : 10 ^ ((body 10 n).length - 1) ≤ n := by
  rw [body_len0, if_neg h]
  have h1 := E_len_le 10 n ((E 10 n).length - 1) (by omega)
  have h2 : 0 < (E 10 n).length := by
    rcases Nat.eq_zero_or_pos (E 10 n).length with g | g
    · have := (E_len_le 10 n 0 (by omega)).1 (by omega)
      simp at this; exact absurd this h
    · exact g
  refine Nat.le_of_not_lt fun g => ?_
  have := h1.2 g
  omega
theorem body_le_len {m n : Nat} (h : m ≤ n) : (body 10 m).length ≤ (body 10 n).length := by
  by_cases hn : m = 0
  · subst hn
    have := List.length_pos_iff.2 (body_ne 10 n (by omega))
    have e : (body 10 0).length = 1 := rfl
    omega
  · rw [body_len0, body_len0, if_neg hn, if_neg (by omega)]
    have := (E_len_le 10 n (E 10 n).length (by omega)).1 (Nat.le_refl _)
    exact (E_len_le 10 m _ (by omega)).2 (by omega)
theorem cmpN (m n : Nat) (e1 e2 : Int) (h1 : -5000 ≤ e1) (h2 : -5000 ≤ e2) (hm : m % 10 ≠ 0) (hn : n % 10 ≠ 0) :
    (if sgI (((body 10 m).length : Int) + e1 - (((body 10 n).length : Int) + e2)) = 0 then cmpL (body 10 m) (body 10 n) else sgI (((body 10 m).length : Int) + e1 - (((body 10 n).length : Int) + e2))) = sgI (VV (m : Int) e1 - VV (n : Int) e2) := by
  have um := body_up m
  have un := body_up n
  have lm := body_low m (by omega)
  have ln := body_low n (by omega)
  have pm := List.length_pos_iff.2 (body_ne 10 m (by omega))
  have pn := List.length_pos_iff.2 (body_ne 10 n (by omega))
  have hc := fun (h : (body 10 m).length + (e1 + 5000).toNat = (body 10 n).length + (e2 + 5000).toNat) => cmpL_pad (body 10 m) (body 10 n) (e1 + 5000).toNat (e2 + 5000).toNat (body_AD m) (body_AD n) (.inr (by rw [numv_body]; exact hm)) (.inr (by rw [numv_body]; exact hn)) h
  rw [numv_body, numv_body] at hc
  unfold VV vD
  have e5 : ((5000 : Nat) : Int) = 5000 := rfl
  rw [e5]
  obtain ⟨E1, hE1⟩ : ∃ E : Nat, (e1 + 5000).toNat = E := ⟨_, rfl⟩
  obtain ⟨E2, hE2⟩ : ∃ E : Nat, (e2 + 5000).toNat = E := ⟨_, rfl⟩
  rw [hE1, hE2] at hc ⊢
  generalize cmpL (body 10 m) (body 10 n) = c at *
  generalize (body 10 m).length = l1 at *
  generalize (body 10 n).length = l2 at *
  rw [Int.natCast_mul, Int.natCast_mul] at hc
  rcases Int.lt_trichotomy (((l1 : Nat) : Int) + e1 - ((l2 : Int) + e2)) 0 with h | h | h
  · rw [sgI_neg h, if_neg (by decide), sgI_neg]
    have a1 : m * 10 ^ E1 < 10 ^ (l1 + E1) := by rw [Nat.pow_add]; exact Nat.mul_lt_mul_of_pos_right um (p10 _)
    have a2 : 10 ^ (l2 - 1 + E2) ≤ n * 10 ^ E2 := by rw [Nat.pow_add]; exact Nat.mul_le_mul_right _ ln
    have a3 : 10 ^ (l1 + E1) ≤ 10 ^ (l2 - 1 + E2) := Nat.pow_le_pow_right (by omega) (by omega)
    rw [← Int.natCast_mul, ← Int.natCast_mul]
    omega
  · rw [sgI_zero h, if_pos rfl, hc (by omega)]
  · rw [sgI_pos h, if_neg (by decide), sgI_pos]
    have a1 : n * 10 ^ E2 < 10 ^ (l2 + E2) := by rw [Nat.pow_add]; exact Nat.mul_lt_mul_of_pos_right un (p10 _)
    have a2 : 10 ^ (l1 - 1 + E1) ≤ m * 10 ^ E1 := by rw [Nat.pow_add]; exact Nat.mul_le_mul_right _ lm
    have a3 : 10 ^ (l2 + E2) ≤ 10 ^ (l1 - 1 + E1) := Nat.pow_le_pow_right (by omega) (by omega)
    rw [← Int.natCast_mul, ← Int.natCast_mul]
    omega
theorem VV_sg (z e : Int) : sgI (VV z e) = sgI z := sgI_mulP z _ (p10 _)
theorem VV_neg (z e : Int) : VV (-z) e = - VV z e := by unfold VV vD; rw [Int.neg_mul]
/-- compare's answer is the order of the numbers -/
theorem cmpV_VV (x e1 y e2 : Int) (h1 : Cn x e1) (h2 : Cn y e2) : cmpV x e1 y e2 = sgI (VV x e1 - VV y e2) := by
  obtain ⟨a1, a2, a3, a4⟩ := h1
  obtain ⟨b1, b2, b3, b4⟩ := h2
  have s1 := VV_sg x e1
  have s2 := VV_sg y e2
  have n1 := VV_neg x e1
  have n2 := VV_neg y e2
  unfold cmpV
  have K := cmpN x.natAbs y.natAbs e1 e2 (by omega) (by omega)
  rcases Int.lt_trichotomy x 0 with hx | hx | hx
  · have e : ((x.natAbs : Nat) : Int) = -x := by omega
    rw [sgI_neg hx] at s1 ⊢
    have v1 : VV x e1 < 0 := by
      unfold sgI at s1
      split at s1
      · assumption
      · split at s1 <;> exact absurd s1 (by decide)
    rcases Int.lt_trichotomy y 0 with hy | hy | hy
    · have e' : ((y.natAbs : Nat) : Int) = -y := by omega
      rw [sgI_neg hy, if_neg (by decide), K (a1.resolve_left (by omega)) (b1.resolve_left (by omega)), e, e', n1, n2, Int.mul_neg, Int.mul_one, ← sgI_opp]
      congr 1; omega
    · rw [sgI_zero hy] at s2 ⊢
      rw [if_pos (.inl (by decide))]
      have v2 : VV y e2 = 0 := by rw [hy]; unfold VV vD; rw [Int.zero_mul]
      rw [v2, sgI_neg (show VV x e1 - 0 < 0 by omega)]; rfl
    · rw [sgI_pos hy] at s2 ⊢
      have v2 : 0 < VV y e2 := Int.mul_pos hy (by have := p10 (e2 + (5000 : Nat)).toNat; omega)
      rw [if_pos (.inl (by decide)), sgI_neg (show VV x e1 - VV y e2 < 0 by omega)]; rfl
  · rw [sgI_zero hx] at s1 ⊢
    have v1 : VV x e1 = 0 := by rw [hx]; unfold VV vD; rw [Int.zero_mul]
    rw [if_pos (.inr rfl), v1]
    rcases Int.lt_trichotomy y 0 with hy | hy | hy
    · have v2 : VV y e2 < 0 := Int.mul_neg_of_neg_of_pos hy (by have := p10 (e2 + (5000 : Nat)).toNat; omega)
      rw [sgI_neg hy, sgI_pos (show 0 < 0 - VV y e2 by omega)]; rfl
    · have v2 : VV y e2 = 0 := by rw [hy]; unfold VV vD; rw [Int.zero_mul]
      rw [sgI_zero hy, v2, Int.sub_self]
    · have v2 : 0 < VV y e2 := Int.mul_pos hy (by have := p10 (e2 + (5000 : Nat)).toNat; omega)
      rw [sgI_pos hy, sgI_neg (show 0 - VV y e2 < 0 by omega)]; rfl
  · have e : ((x.natAbs : Nat) : Int) = x := by omega
    have v1 : 0 < VV x e1 := Int.mul_pos hx (by have := p10 (e1 + (5000 : Nat)).toNat; omega)
    rw [sgI_pos hx]
    rcases Int.lt_trichotomy y 0 with hy | hy | hy
    · have v2 : VV y e2 < 0 := Int.mul_neg_of_neg_of_pos hy (by have := p10 (e2 + (5000 : Nat)).toNat; omega)
      rw [sgI_neg hy, if_pos (.inl (by decide)), sgI_pos (show 0 < VV x e1 - VV y e2 by omega)]; rfl
    · have v2 : VV y e2 = 0 := by rw [hy]; unfold VV vD; rw [Int.zero_mul]
      rw [sgI_zero hy, if_pos (.inl (by decide)), v2, sgI_pos (show 0 < VV x e1 - 0 by omega)]; rfl
    · have e' : ((y.natAbs : Nat) : Int) = y := by omega
      rw [sgI_pos hy, if_neg (by decide), K (a1.resolve_left (by omega)) (b1.resolve_left (by omega)), e, e', Int.mul_one]
theorem addZ_VV (z1 e1 z2 e2 : Int) (h1 : -5000 ≤ e1) (h2 : -5000 ≤ e2) : VV (addZ z1 e1 z2 e2) (min e1 e2) = VV z1 e1 + VV z2 e2 := by
  unfold VV vD addZ
  rw [Int.add_mul, Int.mul_assoc, Int.mul_assoc, ← Int.natCast_mul, ← Int.natCast_mul, ← Nat.pow_add, ← Nat.pow_add]
  congr 4
  · omega
  · omega
theorem pow_mulG (z1 z2 : Int) (s k a b : Nat) (h : s + k = a + b) : z1 * z2 * ((10 ^ s : Nat) : Int) * ((10 ^ k : Nat) : Int) = z1 * ((10 ^ a : Nat) : Int) * (z2 * ((10 ^ b : Nat) : Int)) := by
  rw [Int.mul_assoc (z1 * z2), ← Int.natCast_mul, ← Nat.pow_add, h, Nat.pow_add, Int.natCast_mul]
  generalize ((10 ^ a : Nat) : Int) = x
  generalize ((10 ^ b : Nat) : Int) = y
  simp only [Int.mul_assoc, Int.mul_left_comm]
/-- the unit of VV -/
def U5 : Int := ((10 ^ 5000 : Nat) : Int)
/-- the product, in units of 10 ^ -10000 -/
theorem mul_VV (z1 e1 z2 e2 : Int) (h1 : -2000 ≤ e1) (h2 : -2000 ≤ e2) : VV (z1 * z2) (e1 + e2) * U5 = VV z1 e1 * VV z2 e2 := by
  unfold VV vD U5
  exact pow_mulG z1 z2 _ 5000 _ _ (by omega)
theorem U5_pos : 0 < U5 := by
  have := p10 5000
  unfold U5
  exact Int.natCast_pos.2 this
/-- one number, one canonical text -/
theorem VV_inj (z e z' e' : Int) (h : Cn z e) (h' : Cn z' e') (hv : VV z e = VV z' e') : z = z' ∧ e = e' := by
  have h1 := out_canon z e h
  have h2 := out_canon z' e' h'
  rw [oV_of z e (by have := h.2.2.1; omega), hv, ← oV_of z' e' (by have := h'.2.2.1; omega), h2] at h1
  have := congrArg (fun x => x.1.data.toList) h1
  exact ⟨(tD_inj this).1.symm, (tD_inj this).2.symm⟩
theorem oV_ok (V : Int) (t : ByteArray) (h : oV V = (t, 0)) : ∃ z e, Cn z e ∧ t = mkB (tD z e) ∧ VV z e = V := by
  obtain ⟨z, e, h1, h2, h3⟩ := out_ok_V 5000 (by omega) V (-(5000 : Nat) : Int) (by omega) t h
  refine ⟨z, e, h1, h2, ?_⟩
  unfold VV
  rw [h3]
  unfold vD
  rw [show (-((5000 : Nat) : Int) + ((5000 : Nat) : Int)).toNat = 0 by omega]
  simp
theorem oV_err (V : Int) : (oV V).2 = 0 ∨ (oV V).2 = 6 ∨ (oV V).2 = 2 := out_err _ _
end Go.Proofs.YtpankmaljafnnaaGreatDoor
