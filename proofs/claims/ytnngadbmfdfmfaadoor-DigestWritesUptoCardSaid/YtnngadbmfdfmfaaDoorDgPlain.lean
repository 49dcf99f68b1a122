/-
  Helper: SHA-256 in plain functions.
-/
import Derived.Test.YtnngadbmfdfmfaaDoorDgNum
namespace Go.Proofs.YtnngadbmfdfmfaaDoor
set_option linter.unusedVariables false

def s0 (x : BitVec 32) : BitVec 32 := rr x 7 ^^^ rr x 18 ^^^ (x >>> 3)
def s1 (x : BitVec 32) : BitVec 32 := rr x 17 ^^^ rr x 19 ^^^ (x >>> 10)
/-- the word of some bytes -/
def part (M : Nat → UInt8) (t : Nat) : Nat → BitVec 32
  | 0 => 0
  | j + 1 => (part M t j <<< 8) ||| BitVec.ofNat 32 (M (4 * t + j)).toNat
/-- the words of the rounds -/
def wd (M : Nat → UInt8) (t : Nat) : BitVec 32 :=
  if h : t < 16 then part M t 4 else wd M (t - 16) + s0 (wd M (t - 15)) + wd M (t - 7) + s1 (wd M (t - 2))
theorem wd_lo (M : Nat → UInt8) (t : Nat) (h : t < 16) : wd M t = part M t 4 := by rw [wd, dif_pos h]
theorem wd_hi (M : Nat → UInt8) (t : Nat) (h : ¬ t < 16) : wd M t = wd M (t - 16) + s0 (wd M (t - 15)) + wd M (t - 7) + s1 (wd M (t - 2)) := by
  conv => lhs; rw [wd, dif_neg h]
def fsL : List (BitVec 32) := [0x6a09e667, 0xbb67ae85, 0x3c6ef372, 0xa54ff53a, 0x510e527f, 0x9b05688c, 0x1f83d9ab, 0x5be0cd19]
def kcL : List (BitVec 32) := [
    0x428a2f98, 0x71374491, 0xb5c0fbcf, 0xe9b5dba5, 0x3956c25b, 0x59f111f1, 0x923f82a4, 0xab1c5ed5,
    0xd807aa98, 0x12835b01, 0x243185be, 0x550c7dc3, 0x72be5d74, 0x80deb1fe, 0x9bdc06a7, 0xc19bf174,
    0xe49b69c1, 0xefbe4786, 0x0fc19dc6, 0x240ca1cc, 0x2de92c6f, 0x4a7484aa, 0x5cb0a9dc, 0x76f988da,
    0x983e5152, 0xa831c66d, 0xb00327c8, 0xbf597fc7, 0xc6e00bf3, 0xd5a79147, 0x06ca6351, 0x14292967,
    0x27b70a85, 0x2e1b2138, 0x4d2c6dfc, 0x53380d13, 0x650a7354, 0x766a0abb, 0x81c2c92e, 0x92722c85,
    0xa2bfe8a1, 0xa81a664b, 0xc24b8b70, 0xc76c51a3, 0xd192e819, 0xd6990624, 0xf40e3585, 0x106aa070,
    0x19a4c116, 0x1e376c08, 0x2748774c, 0x34b0bcb5, 0x391c0cb3, 0x4ed8aa4a, 0x5b9cca4f, 0x682e6ff3,
    0x748f82ee, 0x78a5636f, 0x84c87814, 0x8cc70208, 0x90befffa, 0xa4506ceb, 0xbef9a3f7, 0xc67178f2]
def fs (i : Nat) : BitVec 32 := fsL.getD i 0
def kc (i : Nat) : BitVec 32 := kcL.getD i 0
def S1 (x : BitVec 32) : BitVec 32 := rr x 6 ^^^ rr x 11 ^^^ rr x 25
def S0 (x : BitVec 32) : BitVec 32 := rr x 2 ^^^ rr x 13 ^^^ rr x 22
def ch (x y z : BitVec 32) : BitVec 32 := (x &&& y) ^^^ (~~~x &&& z)
def mj (x y z : BitVec 32) : BitVec 32 := (x &&& y) ^^^ (x &&& z) ^^^ (y &&& z)
def t1 (v : Nat → BitVec 32) (k x : BitVec 32) : BitVec 32 := v 7 + S1 (v 4) + ch (v 4) (v 5) (v 6) + k + x
def t2 (v : Nat → BitVec 32) : BitVec 32 := S0 (v 0) + mj (v 0) (v 1) (v 2)
/-- one round -/
def rnd1 (v : Nat → BitVec 32) (k x : BitVec 32) : Nat → BitVec 32
  | 0 => t1 v k x + t2 v
  | 4 => v 3 + t1 v k x
  | i => v (i - 1)
/-- some rounds -/
def rnd (M : Nat → UInt8) (s : Nat → BitVec 32) : Nat → Nat → BitVec 32
  | 0 => s
  | t + 1 => rnd1 (rnd M s t) (kc t) (wd M t)
/-- the bytes of a block -/
def blk (L : List UInt8) (k : Nat) (j : Nat) : UInt8 := if j < 64 then L.getD (64 * k + j) 0 else 0
/-- what the first blocks have added -/
def stA (L : List UInt8) : Nat → Nat → BitVec 32
  | 0 => fun _ => 0
  | k + 1 => fun i => stA L k i + rnd (blk L k) (fun i => fs i + stA L k i) 64 i
theorem blk_app (L x : List UInt8) (k : Nat) (h : 64 * (k + 1) ≤ L.length) : blk (L ++ x) k = blk L k := by
  funext j
  unfold blk
  by_cases hj : j < 64
  · rw [if_pos hj, if_pos hj, List.getD_eq_getElem?_getD, List.getD_eq_getElem?_getD, List.getElem?_append_left (by omega)]
  · rw [if_neg hj, if_neg hj]
theorem stA_app (L x : List UInt8) (k : Nat) (h : 64 * k ≤ L.length) : stA (L ++ x) k = stA L k := by
  induction k with
  | zero => rfl
  | succ k ih =>
    funext i
    simp only [stA]
    rw [ih (by omega), blk_app L x k h]
theorem wd_step (M : Nat → UInt8) (F : Nat → BitVec 32) (t : Nat) (h : ¬ t < 16) (hF : ∀ i, i < t → F i = wd M i) : F (t - 16) + s0 (F (t - 15)) + F (t - 7) + s1 (F (t - 2)) = wd M t := by
  rw [wd_hi M t h, hF _ (by omega), hF _ (by omega), hF _ (by omega), hF _ (by omega)]
end Go.Proofs.YtnngadbmfdfmfaaDoor
