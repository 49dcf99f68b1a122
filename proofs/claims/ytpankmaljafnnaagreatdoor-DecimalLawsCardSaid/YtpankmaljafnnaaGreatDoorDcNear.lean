/-
  Helper (plain): a rounded decimal is near, and rounding it again changes nothing.
-/
import Derived.Test.YtpankmaljafnnaaGreatDoorDcV
namespace Go.Proofs.YtpankmaljafnnaaGreatDoor
open Go.RowKit
set_option linter.unusedVariables false
set_option linter.unusedSimpArgs false

/-- a coefficient cut to its first digits and rounded -/
def rndN (m : Nat) (k : Int) : Nat := numv ((body 10 m).take (max k 0).toNat) + (if rupV (body 10 m) k then 1 else 0)
theorem rndZ_N (z e ex : Int) (h : e < ex) : rndZ z e ex = zi (neg z) (rndN z.natAbs (((body 10 z.natAbs).length : Int) - (ex - e))) := if_neg (by omega)
theorem rndN_zero (k : Int) (h : k ≤ 0) : rndN 0 k = 0 := by
  unfold rndN
  rw [show (max k 0).toNat = 0 by omega]
  have hb : body 10 0 = [48] := rfl
  rw [hb]
  unfold rupV
  by_cases c : k < 0
  · rw [if_pos c]; rfl
  · rw [if_neg c, show k.toNat = 0 by omega]; rfl
theorem rndN_near (m d : Nat) (hm : m % 10 ≠ 0) (hd : 0 < d) : 2 * (rndN m (((body 10 m).length : Int) - (d : Int)) * 10 ^ d) ≤ 2 * m + 10 ^ d ∧ 2 * m ≤ 2 * (rndN m (((body 10 m).length : Int) - (d : Int)) * 10 ^ d) + 10 ^ d ∧ rndN m (((body 10 m).length : Int) - (d : Int)) ≤ m + 1 := by
  have hu := body_up m
  have hA := body_AD m
  have hv := numv_body m
  obtain ⟨j, rfl⟩ : ∃ j, d = j + 1 := ⟨d - 1, by omega⟩
  have hp := Nat.pow_succ 10 j
  unfold rndN
  generalize body 10 m = L at *
  by_cases c : (L.length : Int) - ((j + 1 : Nat) : Int) < 0
  · have e1 : (max ((L.length : Int) - ((j + 1 : Nat) : Int)) 0).toNat = 0 := by omega
    have e2 : rupV L ((L.length : Int) - ((j + 1 : Nat) : Int)) = false := if_pos c
    have h1 : 10 ^ L.length ≤ 10 ^ j := Nat.pow_le_pow_right (by omega) (by omega)
    have e3 : numv ([] : List UInt8) = 0 := rfl
    rw [e1, e2, List.take_zero, e3, if_neg (by decide), Nat.zero_mul]
    omega
  · obtain ⟨k, hk⟩ : ∃ k : Nat, (L.length : Int) - ((j + 1 : Nat) : Int) = (k : Int) := ⟨((L.length : Int) - ((j + 1 : Nat) : Int)).toNat, by omega⟩
    rw [hk]
    have e1 : (max (k : Int) 0).toNat = k := by omega
    have e2 : rupV L (k : Int) = rupL L k := by unfold rupV; rw [if_neg (by omega), Int.toNat_natCast]
    rw [e1, e2]
    have hl : (L.drop k).length = j + 1 := by rw [List.length_drop]; omega
    have hs : numv L = numv (L.take k) * 10 ^ (j + 1) + numv (L.drop k) := by
      conv => lhs; rw [← List.take_append_drop k L, numv_append, hl]
    have hr := numv_lt (L.drop k) (hA.drop k)
    rw [hl] at hr
    have hne : numv (L.drop k) % 10 ≠ 0 := by
      have h2 : numv (L.take k) * 10 ^ (j + 1) = 10 * (numv (L.take k) * 10 ^ j) := by rw [hp, ← Nat.mul_assoc, Nat.mul_comm]
      omega
    have hc := cmpL_pad (L.drop k) [53] 0 j (hA.drop k) (by intro c hc; simp at hc; subst hc; decide) (.inr hne) (.inr (by decide)) (by rw [hl]; simp; omega)
    have e5 : numv [53] = 5 := rfl
    rw [Nat.pow_zero, Nat.mul_one, e5] at hc
    have hrup : rupL L k = (if sgI (((numv (L.drop k) : Nat) : Int) - ((5 * 10 ^ j : Nat) : Int)) = 0 then (decide (0 < k) && decide (((L.getD (k - 1) 0).toNat - 48) % 2 = 1)) else decide (0 < sgI (((numv (L.drop k) : Nat) : Int) - ((5 * 10 ^ j : Nat) : Int)))) := by unfold rupL; rw [hc]
    rw [hv] at hs
    have hT : numv (L.take k) ≤ numv (L.take k) * 10 ^ (j + 1) := Nat.le_mul_of_pos_right _ (p10 _)
    generalize rupL L k = u at *
    generalize numv (L.take k) = T at *
    generalize numv (L.drop k) = R at *
    rw [hp] at hs hr hT ⊢
    generalize 10 ^ j = P at *
    have hTT : ∀ v, (T + v) * (P * 10) = T * (P * 10) + v * (P * 10) := fun v => Nat.add_mul _ _ _
    rcases Int.lt_trichotomy (((R : Nat) : Int) - ((5 * P : Nat) : Int)) 0 with g | g | g
    · have hu2 : u = false := by rw [hrup, sgI_neg g]; rfl
      rw [hu2, if_neg (by decide), hTT]
      generalize T * (P * 10) = TT at *
      omega
    · cases u
      · rw [if_neg (by decide), hTT]
        generalize T * (P * 10) = TT at *
        omega
      · rw [if_pos rfl, hTT]
        generalize T * (P * 10) = TT at *
        omega
    · have hu2 : u = true := by rw [hrup, sgI_pos g]; rfl
      rw [hu2, if_pos rfl, hTT]
      generalize T * (P * 10) = TT at *
      omega
theorem VV_zi (b : Bool) (n : Nat) (e : Int) : VV (zi b n) e = zi b (n * 10 ^ (e + 5000).toNat) := by
  unfold VV vD
  rw [zi_mul]; rfl
theorem VV_split (n : Nat) (e : Int) (d : Nat) (h : -5000 ≤ e) : n * 10 ^ (e + (d : Int) + 5000).toNat = n * 10 ^ d * 10 ^ (e + 5000).toNat := by
  rw [Nat.mul_assoc, ← Nat.pow_add]
  congr 2; omega
/-- a rounded number is at most half a unit away -/
theorem rnd_near_VV (z x ex : Int) (hC : Cn z x) (he1 : -2000 ≤ ex) (he2 : ex ≤ 2000) : 2 * (VV (rndZ z x ex) (rndE x ex) - VV z x) ≤ VV 1 ex ∧ - VV 1 ex ≤ 2 * (VV (rndZ z x ex) (rndE x ex) - VV z x) := by
  obtain ⟨c1, c2, c3, c4⟩ := hC
  have hU : 0 < VV 1 ex := Int.mul_pos (by decide) (by have := p10 (ex + (5000 : Nat)).toNat; omega)
  by_cases h : ex ≤ x
  · have e1 : rndZ z x ex = z := if_pos h
    have e2 : rndE x ex = x := if_pos h
    rw [e1, e2]; omega
  · have e2 : rndE x ex = ex := if_neg h
    rw [e2, rndZ_N z x ex (by omega)]
    rcases c1 with ⟨rfl, rfl⟩ | c1
    · have e3 : rndN (0 : Int).natAbs (((body 10 (0 : Int).natAbs).length : Int) - (ex - 0)) = 0 := rndN_zero _ (by
        have : (body 10 (0 : Int).natAbs).length = 1 := rfl
        omega)
      rw [e3]
      have e4 : VV (zi (neg 0) 0) ex = 0 := Int.zero_mul _
      have e5 : VV 0 0 = 0 := Int.zero_mul _
      rw [e4, e5]; omega
    · obtain ⟨d, hd⟩ : ∃ d : Nat, ex - x = (d : Int) := ⟨(ex - x).toNat, by omega⟩
      obtain rfl : ex = x + (d : Int) := by omega
      have hn := rndN_near z.natAbs d c1 (by omega)
      rw [show x + (d : Int) - x = (d : Int) by omega]
      obtain ⟨n1, n2, _⟩ := hn
      have ez : VV z x = zi (neg z) (z.natAbs * 10 ^ (x + 5000).toNat) := by rw [← VV_zi, zi_self]
      have e1 : VV 1 (x + (d : Int)) = ((10 ^ d * 10 ^ (x + 5000).toNat : Nat) : Int) := by
        have := VV_zi false 1 (x + (d : Int))
        rw [VV_split 1 x d (by omega), Nat.one_mul] at this
        exact this
      rw [e1, ez, VV_zi, VV_split _ x d (by omega)]
      generalize rndN z.natAbs (((body 10 z.natAbs).length : Int) - (d : Int)) = r at *
      generalize z.natAbs = m at *
      have m1 := Nat.mul_le_mul_right (10 ^ (x + 5000).toNat) n1
      have m2 := Nat.mul_le_mul_right (10 ^ (x + 5000).toNat) n2
      rw [Nat.add_mul, Nat.mul_assoc 2 (r * 10 ^ d), Nat.mul_assoc 2 m] at m1
      rw [Nat.add_mul, Nat.mul_assoc 2 (r * 10 ^ d), Nat.mul_assoc 2 m] at m2
      generalize 10 ^ d * 10 ^ (x + 5000).toNat = U at *
      generalize r * 10 ^ d * 10 ^ (x + 5000).toNat = A at *
      generalize m * 10 ^ (x + 5000).toNat = B at *
      unfold zi
      cases neg z
      · rw [if_neg (by decide), if_neg (by decide)]; omega
      · rw [if_pos rfl, if_pos rfl]; omega
/-- rounding what was rounded -/
theorem rnd_twice (z x ex : Int) (hC : Cn z x) (he1 : -2000 ≤ ex) (he2 : ex ≤ 2000) (z' e' : Int) (hC' : Cn z' e') (hv : VV z' e' = VV (rndZ z x ex) (rndE x ex)) : outD (rndZ z' e' ex) (rndE e' ex) = (mkB (tD z' e'), 0) := by
  by_cases h' : ex ≤ e'
  · have e1 : rndZ z' e' ex = z' := if_pos h'
    have e2 : rndE e' ex = e' := if_pos h'
    rw [e1, e2]; exact out_canon z' e' hC'
  · by_cases h : ex ≤ x
    · have e1 : rndZ z x ex = z := if_pos h
      have e2 : rndE x ex = x := if_pos h
      rw [e1, e2] at hv
      obtain ⟨rfl, rfl⟩ := VV_inj _ _ _ _ hC' hC hv
      exact absurd h h'
    · have e2 : rndE x ex = ex := if_neg h
      rw [e2] at hv
      generalize rndZ z x ex = R at *
      obtain ⟨c1, c2, c3, c4⟩ := hC'
      have hz : z' = R * ((10 ^ (ex - e').toNat : Nat) : Int) := by
        unfold VV vD at hv
        have e5 : (ex + ((5000 : Nat) : Int)).toNat = (ex - e').toNat + (e' + ((5000 : Nat) : Int)).toNat := by omega
        rw [e5, Nat.pow_add, Int.natCast_mul, ← Int.mul_assoc] at hv
        exact Int.eq_of_mul_eq_mul_right (by have := p10 (e' + ((5000 : Nat) : Int)).toNat; omega) hv
      rcases c1 with ⟨rfl, rfl⟩ | c1
      · rw [rndZ_N 0 0 ex (by omega)]
        have e3 : rndN (0 : Int).natAbs (((body 10 (0 : Int).natAbs).length : Int) - (ex - 0)) = 0 := rndN_zero _ (by
          have : (body 10 (0 : Int).natAbs).length = 1 := rfl
          omega)
        rw [e3]; rfl
      · exfalso
        apply c1
        rw [hz, Int.natAbs_mul, Int.natAbs_natCast]
        obtain ⟨j, hj⟩ : ∃ j, (ex - e').toNat = j + 1 := ⟨(ex - e').toNat - 1, by omega⟩
        rw [hj, Nat.pow_succ, ← Nat.mul_assoc]
        omega
theorem mant_le (n : Nat) (h : 0 < n) : mant n ≤ n := by
  have := (mant_spec n h).1
  have h2 : mant n ≤ mant n * 10 ^ tz n := Nat.le_mul_of_pos_right _ (p10 _)
  omega
/-- a rounded number of few digits is not too long -/
theorem rnd_short (z x ex : Int) (hC : Cn z x) (hl : (body 10 z.natAbs).length ≤ 300) : (outD (rndZ z x ex) (rndE x ex)).2 ≠ 6 := by
  have hb : (rndZ z x ex).natAbs ≤ z.natAbs + 1 := by
    by_cases h : ex ≤ x
    · have e1 : rndZ z x ex = z := if_pos h
      rw [e1]; omega
    · rw [rndZ_N z x ex (by omega), zi_abs]
      rcases hC.1 with ⟨rfl, rfl⟩ | c1
      · have e3 : rndN (0 : Int).natAbs (((body 10 (0 : Int).natAbs).length : Int) - (ex - 0)) = 0 := rndN_zero _ (by
          have : (body 10 (0 : Int).natAbs).length = 1 := rfl
          omega)
        rw [e3]; omega
      · obtain ⟨d, hd⟩ : ∃ d : Nat, ex - x = (d : Int) := ⟨(ex - x).toNat, by omega⟩
        rw [hd]
        exact (rndN_near z.natAbs d c1 (by omega)).2.2
  generalize rndZ z x ex = R at *
  generalize rndE x ex = E at *
  intro h6
  unfold outD at h6
  by_cases hR : R = 0
  · rw [if_pos hR] at h6; exact absurd h6 (by decide)
  · rw [if_neg hR] at h6
    have hu := body_up z.natAbs
    obtain ⟨K, hK⟩ : ∃ K : Nat, K = 300 := ⟨_, rfl⟩
    have h1 : 10 ^ (body 10 z.natAbs).length ≤ 10 ^ K := Nat.pow_le_pow_right (by omega) (by omega)
    have h2 := mant_le R.natAbs (by omega)
    have h4 : 10 ^ (K + 1) = 10 ^ K * 10 := Nat.pow_succ 10 K
    have h5 := p10 K
    have h3 : mant R.natAbs < 10 ^ (K + 1) := by
      rw [h4]
      generalize 10 ^ K = P at *
      omega
    have h7 : (body 10 (mant R.natAbs)).length ≤ K + 1 := body_len _ _ ((E_len_le 10 _ (K + 1) (by omega)).2 h3) (by omega)
    have h8 : ¬ 400 < (body 10 (mant R.natAbs)).length := by omega
    rw [if_neg h8] at h6
    split at h6
    · exact absurd (show (2 : Int) = 6 from h6) (by decide)
    · exact absurd (show (0 : Int) = 6 from h6) (by decide)
end Go.Proofs.YtpankmaljafnnaaGreatDoor
