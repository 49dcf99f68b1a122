/-
  Helper (plain): decimals: digits as characters, zeros at both ends, canonical texts.
-/
import Derived.Test.YtpankmaljafnnaaGreatDoorDcNew
import Derived.Lib.AtoiAllCases
import Derived.Lib.ItoaNum
namespace Go.Proofs.YtpankmaljafnnaaGreatDoor
open Go.RowKit
set_option linter.unusedVariables false

/-- the number of some digits as characters, the most significant first -/
def numv (l : List UInt8) : Nat := l.foldl (fun n c => 10 * n + (c.toNat - 48)) 0
/-- all are digits -/
def AD (l : List UInt8) : Prop := ∀ c ∈ l, 48 ≤ c.toNat ∧ c.toNat ≤ 57
theorem numv_snoc (l : List UInt8) (c : UInt8) : numv (l ++ [c]) = 10 * numv l + (c.toNat - 48) := by unfold numv; simp
theorem numv_append (l r : List UInt8) : numv (l ++ r) = numv l * 10 ^ r.length + numv r := by
  suffices h : ∀ r : List UInt8, numv (l ++ r.reverse) = numv l * 10 ^ r.length + numv r.reverse by
    have := h r.reverse
    simpa using this
  intro r
  induction r with
  | nil => simp [numv]
  | cons c r ih =>
    rw [List.reverse_cons, ← List.append_assoc, numv_snoc, ih, numv_snoc, List.length_cons, Nat.pow_succ]
    rw [Nat.mul_add, Nat.add_assoc]
    congr 1
    rw [Nat.mul_comm 10, Nat.mul_assoc]
theorem numv_one (c : UInt8) : numv [c] = c.toNat - 48 := by unfold numv; simp
theorem numv_lt (l : List UInt8) (h : AD l) : numv l < 10 ^ l.length := by
  suffices h2 : ∀ (r : List UInt8), AD r → numv r.reverse < 10 ^ r.length by
    have := h2 l.reverse (fun c hc => h c (List.mem_reverse.1 hc))
    simpa using this
  intro r
  induction r with
  | nil => intro _; decide
  | cons c r ih =>
    intro hr
    have h1 := ih (fun d hd => hr d (by simp [hd]))
    have h2 := hr c (by simp)
    rw [List.reverse_cons, numv_snoc, List.length_cons, Nat.pow_succ]
    omega
theorem numv_cons (c : UInt8) (l : List UInt8) : numv (c :: l) = (c.toNat - 48) * 10 ^ l.length + numv l := by
  have := numv_append [c] l
  rw [numv_one] at this
  exact this
theorem numv_zeros (l : List UInt8) (h : ∀ c ∈ l, c = 48) : numv l = 0 := by
  induction l with
  | nil => rfl
  | cons c l ih => rw [numv_cons, ih (fun d hd => h d (by simp [hd])), h c (by simp)]; simp
theorem numv_pos (c : UInt8) (l : List UInt8) (h : 48 ≤ c.toNat) (hc : c ≠ 48) : 0 < numv (c :: l) := by
  rw [numv_cons]
  have h2 : c.toNat ≠ 48 := fun g => hc (UInt8.toNat_inj.1 g)
  have : 0 < 10 ^ l.length := Nat.pow_pos (by omega)
  have : 1 * 10 ^ l.length ≤ (c.toNat - 48) * 10 ^ l.length := Nat.mul_le_mul_right _ (by omega)
  omega
theorem body_step (m d : Nat) (hm : m ≠ 0) (hd : d < 10) : body 10 (10 * m + d) = body 10 m ++ [UInt8.ofNat (48 + d)] := by
  unfold body
  rw [if_neg (by omega), if_neg hm, E_pos 10 (10 * m + d) (by omega) (by omega)]
  have e1 : (10 * m + d) % 10 = d := by omega
  have e2 : (10 * m + d) / 10 = m := by omega
  rw [e1, e2, List.reverse_cons, List.map_append]
  congr 1
  show [fig (UInt8.ofNat d)] = _
  have h1 : (UInt8.ofNat d).toNat = d := by rw [UInt8.toNat_ofNat']; omega
  congr 1
  apply UInt8.toNat_inj.1
  rw [fig_lt _ (by omega), h1, UInt8.toNat_ofNat']
  omega
theorem body_small (d : Nat) (hd : d < 10) : body 10 d = [UInt8.ofNat (48 + d)] := by
  have : ∀ d : Fin 10, body 10 d.1 = [UInt8.ofNat (48 + d.1)] := by decide +kernel
  exact this ⟨d, hd⟩
theorem body_AD (n : Nat) : AD (body 10 n) := body_dig n
theorem dig_nat (d : Nat) (hd : d < 10) : (UInt8.ofNat (48 + d)).toNat = 48 + d := by rw [UInt8.toNat_ofNat']; omega
theorem numv_body (n : Nat) : numv (body 10 n) = n := by
  induction n using Nat.strongRecOn with
  | ind n ih =>
    by_cases h : n < 10
    · rw [body_small n h, numv_one, dig_nat n h]; omega
    · have e : n = 10 * (n / 10) + n % 10 := by omega
      have hd : n % 10 < 10 := by omega
      rw [e, body_step (n / 10) (n % 10) (by omega) hd, numv_snoc, ih (n / 10) (by omega), dig_nat _ hd]
      omega
theorem chr_dig (c : UInt8) (h : 48 ≤ c.toNat ∧ c.toNat ≤ 57) : UInt8.ofNat (48 + (c.toNat - 48)) = c := by
  apply UInt8.toNat_inj.1
  rw [UInt8.toNat_ofNat']; omega
/-- digits without zeros in front are the text of their number -/
theorem body_numv (l : List UInt8) (h : AD l) (hne : l ≠ []) (h0 : l.head? ≠ some 48) : l = body 10 (numv l) := by
  suffices h2 : ∀ r : List UInt8, AD r.reverse → r ≠ [] → r.reverse.head? ≠ some 48 → r.reverse = body 10 (numv r.reverse) by
    have := h2 l.reverse (by rw [List.reverse_reverse]; exact h) (by simpa using hne) (by rw [List.reverse_reverse]; exact h0)
    rwa [List.reverse_reverse] at this
  intro r
  induction r with
  | nil => intro _ h; exact absurd rfl h
  | cons c r ih =>
    intro hA _ hh
    rw [List.reverse_cons] at hA hh ⊢
    have hc := hA c (by simp)
    by_cases hr : r = []
    · subst hr
      have : numv [c] = c.toNat - 48 := numv_one c
      show [c] = body 10 (numv [c])
      rw [this, body_small _ (by omega), chr_dig c hc]
    · have hr2 : r.reverse ≠ [] := by simpa using hr
      have hh2 : r.reverse.head? ≠ some 48 := by
        intro g
        apply hh
        rw [List.head?_append, g]; rfl
      have hA2 : AD r.reverse := fun d hd => hA d (by simp at hd; simp [hd])
      have hi := ih hA2 hr hh2
      obtain ⟨d, t, hdt⟩ := List.exists_cons_of_ne_nil hr2
      have hp : 0 < numv r.reverse := by
        rw [hdt]
        rw [hdt] at hh2 hA2
        exact numv_pos d t (hA2 d (by simp)).1 (fun g => hh2 (by rw [g]; rfl))
      rw [numv_snoc, body_step _ _ (by omega) (by omega), ← hi, chr_dig c hc]
theorem trimL_num (l : List UInt8) (h : AD l) : trimL l = if numv l = 0 then [] else body 10 (numv l) := by
  induction l with
  | nil => rfl
  | cons c l ih =>
    have ih := ih (fun d hd => h d (by simp [hd]))
    have hc := h c (by simp)
    unfold trimL at ih ⊢
    rw [List.dropWhile_cons]
    by_cases g : c = 48
    · have e : numv (c :: l) = numv l := by rw [numv_cons, g]; simp
      rw [if_pos (by simpa using g), e]; exact ih
    · have hp := numv_pos c l hc.1 g
      rw [if_neg (by simpa using g), if_neg (by omega)]
      exact body_numv (c :: l) h (by simp) (by simpa using g)
def nzf : Nat → Nat → Nat × Nat
  | 0, n => (n, 0)
  | f + 1, n => if n % 10 = 0 ∧ n ≠ 0 then ((nzf f (n / 10)).1, (nzf f (n / 10)).2 + 1) else (n, 0)
/-- a number without the zeros at its end, and their number -/
def mant (n : Nat) : Nat := (nzf n n).1
def tz (n : Nat) : Nat := (nzf n n).2
theorem nzf_spec : ∀ (f n : Nat), n ≤ f → 0 < n → n = (nzf f n).1 * 10 ^ (nzf f n).2 ∧ (nzf f n).1 % 10 ≠ 0
  | 0, n, h, h0 => by omega
  | f + 1, n, h, h0 => by
    unfold nzf
    by_cases c : n % 10 = 0 ∧ n ≠ 0
    · rw [if_pos c]
      obtain ⟨h1, h2⟩ := nzf_spec f (n / 10) (by omega) (by omega)
      refine ⟨?_, h2⟩
      show n = (nzf f (n / 10)).1 * 10 ^ ((nzf f (n / 10)).2 + 1)
      rw [Nat.pow_succ, ← Nat.mul_assoc, ← h1]; omega
    · rw [if_neg c]
      exact ⟨by simp, by show n % 10 ≠ 0; omega⟩
theorem mant_spec (n : Nat) (h : 0 < n) : n = mant n * 10 ^ tz n ∧ mant n % 10 ≠ 0 := nzf_spec n n (Nat.le_refl _) h
theorem pow_uni : ∀ (j k m n : Nat), m % 10 ≠ 0 → n % 10 ≠ 0 → m * 10 ^ j = n * 10 ^ k → m = n ∧ j = k
  | 0, 0, m, n, _, _, h => by simp at h; exact ⟨h, rfl⟩
  | 0, k + 1, m, n, hm, _, h => by rw [Nat.pow_succ, ← Nat.mul_assoc] at h; omega
  | j + 1, 0, m, n, _, hn, h => by rw [Nat.pow_succ, ← Nat.mul_assoc] at h; omega
  | j + 1, k + 1, m, n, hm, hn, h => by
    rw [Nat.pow_succ, Nat.pow_succ, ← Nat.mul_assoc, ← Nat.mul_assoc] at h
    obtain ⟨h1, h2⟩ := pow_uni j k m n hm hn (Nat.eq_of_mul_eq_mul_right (by omega) h)
    exact ⟨h1, by omega⟩
theorem mant_uni (m k : Nat) (h : m % 10 ≠ 0) : mant (m * 10 ^ k) = m ∧ tz (m * 10 ^ k) = k := by
  have hp : 0 < m * 10 ^ k := Nat.mul_pos (by omega) (Nat.pow_pos (by omega))
  obtain ⟨h1, h2⟩ := mant_spec _ hp
  obtain ⟨h3, h4⟩ := pow_uni _ _ _ _ h h2 h1
  exact ⟨h3.symm, h4.symm⟩
theorem trimR_body (m k : Nat) (h : m % 10 ≠ 0) : trimR (body 10 (m * 10 ^ k)) = body 10 m ∧ (body 10 (m * 10 ^ k)).length = (body 10 m).length + k := by
  induction k with
  | zero =>
    rw [Nat.pow_zero, Nat.mul_one]
    refine ⟨?_, rfl⟩
    by_cases h9 : m < 10
    · rw [body_small m h9]
      have := trimR_snoc [] (UInt8.ofNat (48 + m))
      rw [List.nil_append] at this
      rw [this, if_neg]
      intro g
      have := congrArg UInt8.toNat g
      rw [dig_nat m h9] at this
      have e : (48 : UInt8).toNat = 48 := rfl
      omega
    · have e : m = 10 * (m / 10) + m % 10 := by omega
      have hd : m % 10 < 10 := by omega
      rw [e, body_step _ _ (by omega) hd, trimR_snoc, if_neg]
      intro g
      have := congrArg UInt8.toNat g
      rw [dig_nat _ hd] at this
      have e : (48 : UInt8).toNat = 48 := rfl
      omega
  | succ k ih =>
    have hp : 0 < m * 10 ^ k := Nat.mul_pos (by omega) (Nat.pow_pos (by omega))
    have e : m * 10 ^ (k + 1) = 10 * (m * 10 ^ k) + 0 := by rw [Nat.pow_succ, ← Nat.mul_assoc]; omega
    rw [e, body_step _ 0 (by omega) (by omega)]
    have e48 : UInt8.ofNat (48 + 0) = 48 := rfl
    rw [e48, trimR_snoc, if_pos rfl, List.length_append, ih.2]
    exact ⟨ih.1, by simp; omega⟩
theorem itoa_T (z : Int) : Lib.itoa z = T z := by
  have hd : ∀ n, Lib.decDigits n = body 10 n := fun n => by
    induction n using Nat.strongRecOn with
    | ind n ih =>
      rw [Lib.decDigits]
      by_cases h : n < 10
      · rw [dif_pos h, body_small n h]
      · have e : n = 10 * (n / 10) + n % 10 := by omega
        rw [dif_neg h, ih (n / 10) (by omega)]
        conv => rhs; rw [e]
        rw [body_step _ _ (by omega) (by omega)]
  unfold Lib.itoa T Tb
  by_cases h : z < 0
  · rw [if_pos h, if_pos h, hd]; rfl
  · rw [if_neg h, if_neg h, hd, show z.toNat = z.natAbs by omega]; rfl
theorem parse_num : ∀ (l : List UInt8) (acc : Nat), AD l → acc < 18446744073709551616 → Lib.parseUint10 acc l = if acc * 10 ^ l.length + numv l < 18446744073709551616 then .ok (acc * 10 ^ l.length + numv l) else .range
  | [], acc, _, h => by simp [Lib.parseUint10, numv, h]
  | c :: l, acc, hA, h => by
    have hc := hA c (by simp)
    have hA2 : AD l := fun d hd => hA d (by simp [hd])
    have e : acc * 10 ^ (c :: l).length + numv (c :: l) = (acc * 10 + (c.toNat - 48)) * 10 ^ l.length + numv l := by
      rw [numv_cons, List.length_cons, Nat.pow_succ, Nat.add_mul, ← Nat.add_assoc]
      congr 2
      rw [Nat.mul_assoc, Nat.mul_comm (10 ^ l.length)]
    have hp : 1 ≤ 10 ^ l.length := Nat.pow_pos (by omega)
    have hm : acc * 10 + (c.toNat - 48) ≤ (acc * 10 + (c.toNat - 48)) * 10 ^ l.length := Nat.le_mul_of_pos_right _ hp
    rw [e]
    unfold Lib.parseUint10
    rw [if_pos hc]
    by_cases h1 : 1844674407370955162 ≤ acc
    · rw [if_pos h1, if_neg (by omega)]
    · rw [if_neg h1]
      by_cases h2 : 18446744073709551616 ≤ acc * 10 + (c.toNat - 48)
      · rw [if_pos h2, if_neg (by omega)]
      · rw [if_neg h2]
        exact parse_num l _ hA2 (by omega)
theorem atoi_T (z : Int) : Lib.atoiAll (T z) = if -9223372036854775808 ≤ z ∧ z ≤ 9223372036854775807 then .ok z else .range := by
  have hm : Lib.parseMag (body 10 z.natAbs) = if z.natAbs < 18446744073709551616 then .ok z.natAbs else .range := by
    unfold Lib.parseMag
    rw [if_neg (body_ne 10 _ (by omega)), parse_num _ 0 (body_AD _) (by omega), numv_body]
    simp
  by_cases h : z < 0
  · have e : T z = 45 :: body 10 z.natAbs := by unfold T Tb; rw [if_pos h]; rfl
    rw [e, Lib.atoiAll_minus, hm]
    by_cases h1 : z.natAbs < 18446744073709551616
    · rw [if_pos h1]
      unfold Lib.signed
      by_cases h2 : 9223372036854775808 < z.natAbs
      · rw [if_neg (by omega)]; simp [h2]
      · rw [if_pos (by omega)]; simp [h2]; omega
    · rw [if_neg h1, if_neg (by omega)]; rfl
  · have e : T z = body 10 z.natAbs := by unfold T Tb; rw [if_neg h]; rfl
    obtain ⟨c, r, hcr⟩ := List.exists_cons_of_ne_nil (body_ne 10 z.natAbs (by omega))
    have hc := body_dig z.natAbs c (by rw [hcr]; simp)
    rw [e, hcr, Lib.atoiAll_plain c r (by omega) (by omega), ← hcr, hm]
    by_cases h1 : z.natAbs < 18446744073709551616
    · rw [if_pos h1]
      unfold Lib.signless
      by_cases h2 : 9223372036854775808 ≤ z.natAbs
      · rw [if_neg (by omega)]; simp [h2]
      · rw [if_pos (by omega)]; simp [h2]; omega
    · rw [if_neg h1, if_neg (by omega)]; rfl
end Go.Proofs.YtpankmaljafnnaaGreatDoor
