/-
  Helper: words as hexadecimal digits.
-/
import Derived.Test.YtnngadbmfdfmfaaDoorDgWrite
import Derived.Test.YtnngadbmfdfmfaaDoorDgTxt
namespace Go.Proofs.YtnngadbmfdfmfaaDoor
open Go.RowKit
set_option linter.unusedVariables false

/-- turned to the left, four bits a time -/
def rotk (x : BitVec 32) : Nat → BitVec 32
  | 0 => x
  | j + 1 => (rotk x j <<< 4) ||| (rotk x j >>> 28)
def nib (x : BitVec 32) (k : Nat) : Nat := x.toNat / 2 ^ (28 - 4 * k) % 16
theorem rot4 (z : BitVec 32) : ((z <<< 4) ||| (z >>> 28)).toNat = z.toNat % 2 ^ 28 * 16 + z.toNat / 2 ^ 28 := by
  have hz := z.isLt
  rw [BitVec.toNat_or, BitVec.toNat_shiftLeft, BitVec.toNat_ushiftRight, Nat.shiftRight_eq_div_pow, Nat.shiftLeft_eq]
  have e : z.toNat * 2 ^ 4 % 2 ^ 32 = (z.toNat % 2 ^ 28) <<< 4 := by rw [Nat.shiftLeft_eq]; omega
  rw [e, ← Nat.shiftLeft_add_eq_or_of_lt (by omega), Nat.shiftLeft_eq]
theorem rotk_nat (x : BitVec 32) (j : Nat) (hj : j ≤ 8) : (rotk x j).toNat = x.toNat % 2 ^ (32 - 4 * j) * 2 ^ (4 * j) + x.toNat / 2 ^ (32 - 4 * j) := by
  have hx := x.isLt
  induction j with
  | zero => show x.toNat = _; omega
  | succ j ih =>
    have h := ih (by omega)
    simp only [rotk]
    rw [rot4, h]
    generalize x.toNat = y at *
    have hj2 : j = 0 ∨ j = 1 ∨ j = 2 ∨ j = 3 ∨ j = 4 ∨ j = 5 ∨ j = 6 ∨ j = 7 := by omega
    clear ih h hj
    rcases hj2 with rfl | rfl | rfl | rfl | rfl | rfl | rfl | rfl <;> omega
theorem rotk_nib (x : BitVec 32) (j : Nat) (hj : j < 8) : (rotk x (j + 1)).toNat % 16 = nib x j := by
  have hx := x.isLt
  rw [rotk_nat x (j + 1) (by omega)]
  unfold nib
  generalize x.toNat = y at *
  have hj2 : j = 0 ∨ j = 1 ∨ j = 2 ∨ j = 3 ∨ j = 4 ∨ j = 5 ∨ j = 6 ∨ j = 7 := by omega
  clear hj
  rcases hj2 with rfl | rfl | rfl | rfl | rfl | rfl | rfl | rfl <;> omega
/-- the first digits of a word -/
def hexW (x : BitVec 32) (j : Nat) : List UInt8 := (List.range j).map fun k => hx (nib x k)
/-- the digits of the first words -/
def hexS (F : Nat → BitVec 32) : Nat → List UInt8
  | 0 => []
  | k + 1 => hexS F k ++ hexW (F k) 8
theorem hexW_len (x : BitVec 32) (j : Nat) : (hexW x j).length = j := by unfold hexW; simp
theorem hexS_len (F : Nat → BitVec 32) (k : Nat) : (hexS F k).length = 8 * k := by
  induction k with
  | zero => rfl
  | succ k ih => simp only [hexS]; rw [List.length_append, ih, hexW_len]; omega
theorem hexW_succ (x : BitVec 32) (j : Nat) : hexW x (j + 1) = hexW x j ++ [hx (nib x j)] := by
  unfold hexW; rw [List.range_succ, List.map_append]; rfl
/-- the words of a text whose blocks are all full -/
def wordsF (L : List UInt8) : Nat → BitVec 32 := fun i => fs i + stA L (L.length / 64) i
/-- the digest -/
def sumF (L : List UInt8) : List UInt8 := hexS (wordsF (L ++ padB L.length)) 8
theorem sumF_len (L : List UInt8) : (sumF L).length = 64 := hexS_len _ _
theorem and15 (x : BitVec 32) : bits .and .u32 ((x.toNat : Nat) : Int) 15 = ((x.toNat % 16 : Nat) : Int) := by
  have := u32_and_nat x.toNat 15 x.isLt (by omega)
  rw [show x.toNat &&& 15 = x.toNat % 16 from Nat.and_two_pow_sub_one_eq_mod x.toNat 4] at this
  exact this
end Go.Proofs.YtnngadbmfdfmfaaDoor
