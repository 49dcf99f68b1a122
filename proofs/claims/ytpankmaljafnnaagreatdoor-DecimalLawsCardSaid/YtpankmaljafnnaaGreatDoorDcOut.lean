/-
  Helper (plain): the canonical text of a decimal, and what a text is read as.
-/
import Derived.Test.YtpankmaljafnnaaGreatDoorDcNum
namespace Go.Proofs.YtpankmaljafnnaaGreatDoor
open Go.RowKit
set_option linter.unusedVariables false

def mkB (l : List UInt8) : ByteArray := ⟨l.toArray⟩
theorem mkB_data (l : List UInt8) : (mkB l).data.toList = l := rfl
theorem mkB_size (l : List UInt8) : (mkB l).size = l.length := rfl
theorem mkB_self (s : ByteArray) : mkB s.data.toList = s := by apply ba_ext; rfl
/-- the text of a decimal -/
def tD (z e : Int) : List UInt8 := T z ++ 101 :: T e
def neg (z : Int) : Bool := decide (z < 0)
def zi (b : Bool) (n : Nat) : Int := if b then -(n : Int) else n
theorem zi_abs (b : Bool) (n : Nat) : (zi b n).natAbs = n := by unfold zi; cases b <;> simp
theorem zi_self (z : Int) : zi (neg z) z.natAbs = z := by
  unfold zi neg
  by_cases h : z < 0
  · rw [decide_eq_true h, if_pos rfl]; omega
  · rw [decide_eq_false h, if_neg (by decide)]; omega
/-- a decimal in its normal form -/
def Cn (z e : Int) : Prop := ((z = 0 ∧ e = 0) ∨ z.natAbs % 10 ≠ 0) ∧ (body 10 z.natAbs).length ≤ 400 ∧ -2000 ≤ e ∧ e ≤ 2000
/-- the answer for a number: its text, or the error of the limits -/
def outD (z e : Int) : ByteArray × Int :=
  if z = 0 then (mkB (tD 0 0), 0)
  else if 400 < (body 10 (mant z.natAbs)).length then (⟨#[]⟩, 6)
  else if e + (tz z.natAbs : Int) < -2000 ∨ 2000 < e + (tz z.natAbs : Int) then (⟨#[]⟩, 2)
  else (mkB (tD (zi (neg z) (mant z.natAbs)) (e + (tz z.natAbs : Int))), 0)
theorem out_canon (z e : Int) (h : Cn z e) : outD z e = (mkB (tD z e), 0) := by
  obtain ⟨h1, h2, h3, h4⟩ := h
  unfold outD
  by_cases hz : z = 0
  · rw [if_pos hz]
    rcases h1 with ⟨_, he⟩ | h1
    · rw [hz, he]
    · rw [hz] at h1; exact absurd rfl h1
  · have h5 : z.natAbs % 10 ≠ 0 := h1.resolve_left (fun g => hz g.1)
    obtain ⟨m1, m2⟩ := mant_uni z.natAbs 0 h5
    rw [Nat.pow_zero, Nat.mul_one] at m1 m2
    rw [if_neg hz, m1, m2, if_neg (by omega), if_neg (by omega), zi_self]
    simp
theorem neg_mul (z : Int) (p : Nat) (hp : 0 < p) : neg (z * (p : Int)) = neg z := by
  unfold neg
  by_cases h : z < 0
  · rw [decide_eq_true h, decide_eq_true (Int.mul_neg_of_neg_of_pos h (by omega))]
  · rw [decide_eq_false h, decide_eq_false (by have := Int.mul_nonneg (show 0 ≤ z by omega) (show (0 : Int) ≤ p by omega); omega)]
theorem out_shift (z e : Int) (k : Nat) : outD (z * ((10 ^ k : Nat) : Int)) e = outD z (e + k) := by
  have hp : 0 < 10 ^ k := Nat.pow_pos (by omega)
  by_cases hz : z = 0
  · subst hz; rw [Int.zero_mul]; rfl
  · have hz2 : z * ((10 ^ k : Nat) : Int) ≠ 0 := Int.mul_ne_zero hz (by omega)
    obtain ⟨m1, m2⟩ := mant_spec z.natAbs (by omega)
    have e1 : (z * ((10 ^ k : Nat) : Int)).natAbs = mant z.natAbs * 10 ^ (tz z.natAbs + k) := by
      rw [Int.natAbs_mul, Int.natAbs_natCast, Nat.pow_add, ← Nat.mul_assoc, ← m1]
    obtain ⟨u1, u2⟩ := mant_uni (mant z.natAbs) (tz z.natAbs + k) m2
    unfold outD
    rw [if_neg hz, if_neg hz2, e1, u1, u2, neg_mul z _ hp]
    have e2 : e + ((tz z.natAbs + k : Nat) : Int) = e + (k : Int) + (tz z.natAbs : Int) := by omega
    rw [e2]
theorem out_ok (z e : Int) (t : ByteArray) (h : outD z e = (t, 0)) : ∃ z' e', Cn z' e' ∧ t = mkB (tD z' e') ∧ ((z = 0 ∧ z' = 0) ∨ ∃ k : Nat, z = z' * ((10 ^ k : Nat) : Int) ∧ e' = e + k) := by
  unfold outD at h
  by_cases hz : z = 0
  · rw [if_pos hz] at h
    exact ⟨0, 0, ⟨.inl ⟨rfl, rfl⟩, by decide, by omega, by omega⟩, (Prod.mk.inj h).1.symm, .inl ⟨hz, rfl⟩⟩
  · rw [if_neg hz] at h
    obtain ⟨m1, m2⟩ := mant_spec z.natAbs (by omega)
    split at h
    · exact absurd (Prod.mk.inj h).2 (by decide)
    · split at h
      · exact absurd (Prod.mk.inj h).2 (by decide)
      · rename_i c1 c2
        refine ⟨_, _, ⟨.inr (by rw [zi_abs]; exact m2), by rw [zi_abs]; omega, by omega, by omega⟩, (Prod.mk.inj h).1.symm, .inr ⟨tz z.natAbs, ?_, rfl⟩⟩
        have e1 : z = zi (neg z) z.natAbs := (zi_self z).symm
        conv => lhs; rw [e1, m1]
        unfold zi
        cases neg z
        · rw [if_neg (by decide), if_neg (by decide), Int.natCast_mul]
        · rw [if_pos rfl, if_pos rfl, Int.natCast_mul, Int.neg_mul]
theorem out_err (z e : Int) : (outD z e).2 = 0 ∨ (outD z e).2 = 6 ∨ (outD z e).2 = 2 := by
  unfold outD
  split
  · exact .inl rfl
  split
  · exact .inr (.inl rfl)
  split
  · exact .inr (.inr rfl)
  · exact .inl rfl
theorem out_zero (e e' : Int) : outD 0 e = outD 0 e' := rfl
/-- one number for a decimal: in units of 10 ^ -B -/
def vD (B : Nat) (z e : Int) : Int := z * ((10 ^ (e + B).toNat : Nat) : Int)
theorem out_V (B : Nat) (z e : Int) (h : 0 ≤ e + B) : outD z e = outD (vD B z e) (-(B : Int)) := by
  unfold vD
  rw [out_shift]
  have : (-(B : Int)) + ((e + B).toNat : Int) = e := by omega
  rw [this]
theorem out_ok_V (B : Nat) (hB : 5000 ≤ B) (z e : Int) (h : 0 ≤ e + B) (t : ByteArray) (ho : outD z e = (t, 0)) : ∃ z' e', Cn z' e' ∧ t = mkB (tD z' e') ∧ vD B z' e' = vD B z e := by
  obtain ⟨z', e', hC, ht, hk⟩ := out_ok z e t ho
  refine ⟨z', e', hC, ht, ?_⟩
  unfold vD
  rcases hk with ⟨h1, h2⟩ | ⟨k, h1, h2⟩
  · rw [h1, h2, Int.zero_mul, Int.zero_mul]
  · rw [h1, h2, Int.mul_assoc, ← Int.natCast_mul, ← Nat.pow_add]
    congr 3
    omega
theorem T_noe (z : Int) : ∀ c ∈ T z, c ≠ 101 := by
  intro c hc g
  subst g
  unfold T Tb at hc
  rcases List.mem_append.1 hc with h | h
  · split at h
    · simp at h
    · simp at h
  · have := body_dig _ _ h
    revert this; decide
theorem tw_noe : ∀ (l r : List UInt8), (∀ c ∈ l, c ≠ 101) → (l ++ 101 :: r).takeWhile (· != 101) = l
  | [], r, _ => by simp
  | c :: l, r, h => by
    rw [List.cons_append, List.takeWhile_cons, if_pos (by simpa using h c (by simp)), tw_noe l r (fun d hd => h d (by simp [hd]))]
theorem eAt_tD (z e : Int) : eAt (tD z e) = (T z).length := by
  unfold eAt tD; rw [tw_noe _ _ (T_noe z)]
theorem tD_take (z e : Int) : (tD z e).take (T z).length = T z ∧ (tD z e).drop ((T z).length + 1) = T e := by
  unfold tD
  refine ⟨List.take_left' rfl, ?_⟩
  rw [← List.drop_drop, List.drop_left' rfl]; rfl
theorem tD_inj {z e z' e' : Int} (h : tD z e = tD z' e') : z = z' ∧ e = e' := by
  have h1 := eAt_tD z e
  rw [h, eAt_tD] at h1
  have h2 := (tD_take z e).1
  rw [h, ← h1, (tD_take z' e').1] at h2
  have hz := T_inj h2
  have h3 := (tD_take z e).2
  rw [h, ← h1, (tD_take z' e').2] at h3
  exact ⟨hz.symm, (T_inj h3).symm⟩
/-- what stands before and behind the first 'e' -/
def cA (l : List UInt8) : List UInt8 := l.take (eAt l)
def cB (l : List UInt8) : List UInt8 := l.drop (eAt l + 1)
theorem cut_join (l : List UInt8) (h : eAt l < l.length) : l = cA l ++ 101 :: cB l := by
  unfold cA cB
  conv => lhs; rw [← List.take_append_drop (eAt l) l, List.drop_eq_getElem_cons h]
  congr 2
  have h2 : ∀ (l : List UInt8) (h : eAt l < l.length), l[eAt l] = 101 := by
    intro l
    induction l with
    | nil => intro h; simp at h
    | cons c l ih =>
      intro h
      by_cases g : c = 101
      · subst g; rfl
      · have e : eAt (c :: l) = eAt l + 1 := by unfold eAt; rw [List.takeWhile_cons, if_pos (by simpa using g)]; rfl
        have h3 : eAt l < l.length := by rw [e] at h; simpa using h
        have : (c :: l)[eAt (c :: l)] = l[eAt l] := by simp only [e, List.getElem_cons_succ]
        rw [this]; exact ih h3
  exact h2 l h
theorem suf_T (z : Int) : Lib.hasSuffix (T z) [48] = decide (z.natAbs % 10 = 0) := by
  have h1 : ∀ (l : List UInt8) (c : UInt8), Lib.hasSuffix (l ++ [c]) [48] = decide (c = 48) := fun l c => by
    unfold Lib.hasSuffix List.isSuffixOf
    rw [List.reverse_append]
    show ((48 == c) && true) = _
    rw [Bool.and_true]
    by_cases h : c = 48
    · rw [h]; rfl
    · rw [decide_eq_false h]; simpa using fun g => h g.symm
  have h2 : ∃ l, T z = l ++ [UInt8.ofNat (48 + z.natAbs % 10)] := by
    unfold T Tb
    by_cases h : z.natAbs < 10
    · exact ⟨_, by rw [body_small _ h, Nat.mod_eq_of_lt h]⟩
    · have e : z.natAbs = 10 * (z.natAbs / 10) + z.natAbs % 10 := by omega
      refine ⟨(if z < 0 then [45] else []) ++ body 10 (z.natAbs / 10), ?_⟩
      conv => lhs; rw [e]
      rw [body_step _ _ (by omega) (by omega), List.append_assoc]
  obtain ⟨l, hl⟩ := h2
  rw [hl, h1]
  refine decide_eq_decide.2 ⟨fun g => ?_, fun g => by rw [g]; rfl⟩
  have := congrArg UInt8.toNat g
  rw [dig_nat _ (by omega)] at this
  have e : (48 : UInt8).toNat = 48 := rfl
  omega
theorem T_len (z : Int) : (T z).length ≤ 1 + (body 10 z.natAbs).length := by
  unfold T Tb; rw [List.length_append]; split <;> simp
theorem sh_body (z : Int) : Sh z ↔ (body 10 z.natAbs).length ≤ 400 := by
  unfold Sh
  rw [body_len0]
  by_cases h : z.natAbs = 0
  · rw [if_pos h, h]
    exact ⟨fun _ => by omega, fun _ => by decide⟩
  · rw [if_neg h]
theorem sh_small (e : Int) (h1 : -2000 ≤ e) (h2 : e ≤ 2000) : Sh e := by
  rw [sh_body]
  have hE : (E 10 e.natAbs).length ≤ 4 := (E_len_le 10 e.natAbs 4 (by omega)).2 (by omega)
  exact body_len _ _ (by omega) (by omega)
end Go.Proofs.YtpankmaljafnnaaGreatDoor
