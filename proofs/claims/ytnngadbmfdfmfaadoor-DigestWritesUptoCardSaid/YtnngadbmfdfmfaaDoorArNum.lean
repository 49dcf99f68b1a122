/-
  Helper: hexadecimal and Base64 texts as lists: bit by bit, and byte by byte.
-/
namespace Go.Proofs.YtnngadbmfdfmfaaDoor
set_option linter.unusedVariables false

def HX : List UInt8 := [48, 49, 50, 51, 52, 53, 54, 55, 56, 57, 97, 98, 99, 100, 101, 102]
def SX : List UInt8 := [65, 66, 67, 68, 69, 70, 71, 72, 73, 74, 75, 76, 77, 78, 79, 80, 81, 82, 83, 84, 85, 86, 87, 88, 89, 90, 97, 98, 99, 100, 101, 102, 103, 104, 105, 106, 107, 108, 109, 110, 111, 112, 113, 114, 115, 116, 117, 118, 119, 120, 121, 122, 48, 49, 50, 51, 52, 53, 54, 55, 56, 57, 43, 47]
def hx (v : Nat) : UInt8 := HX.getD v 0
def sx (v : Nat) : UInt8 := SX.getD v 0
/-- the first place of a character, or the length -/
def fnd (al : List UInt8) (c : UInt8) : Nat := al.findIdx (· == c)
def bit8 (c : Nat) : List Nat := [c / 128 % 2, c / 64 % 2, c / 32 % 2, c / 16 % 2, c / 8 % 2, c / 4 % 2, c / 2 % 2, c / 1 % 2]
def bitsL (s : List UInt8) : List Nat := s.flatMap fun c => bit8 c.toNat
def numB (b : List Nat) (p : Nat) : Nat → Nat
  | 0 => 0
  | k + 1 => 2 * numB b p k + b.getD (p + k) 0
theorem bit8_len (c : Nat) : (bit8 c).length = 8 := rfl
theorem bits_len (s : List UInt8) : (bitsL s).length = 8 * s.length := by
  induction s with
  | nil => rfl
  | cons c s ih => unfold bitsL at *; rw [List.flatMap_cons, List.length_append, ih, bit8_len, List.length_cons]; omega
theorem bits_cons (c : UInt8) (s : List UInt8) : bitsL (c :: s) = bit8 c.toNat ++ bitsL s := rfl
theorem numB_app (x y : List Nat) (p k : Nat) : numB (x ++ y) (x.length + p) k = numB y p k := by
  induction k with
  | zero => rfl
  | succ k ih =>
    simp only [numB]
    rw [ih, List.getD_eq_getElem?_getD, List.getD_eq_getElem?_getD, List.getElem?_append_right (by omega), show x.length + p + k - x.length = p + k by omega]
theorem numB_pre (x y : List Nat) (p k : Nat) (h : p + k ≤ x.length) : numB (x ++ y) p k = numB x p k := by
  induction k with
  | zero => rfl
  | succ k ih =>
    simp only [numB]
    rw [ih (by omega), List.getD_eq_getElem?_getD, List.getD_eq_getElem?_getD, List.getElem?_append_left (by omega)]
def B01 (b : List Nat) : Prop := ∀ x ∈ b, x < 2
theorem b01_getD {b : List Nat} (h : B01 b) (i : Nat) : b.getD i 0 < 2 := by
  rw [List.getD_eq_getElem?_getD]
  by_cases g : i < b.length
  · rw [List.getElem?_eq_getElem g]; exact h _ (List.getElem_mem g)
  · rw [List.getElem?_eq_none (by omega)]; decide
theorem numB_lt {b : List Nat} (h : B01 b) (p k : Nat) : numB b p k < 2 ^ k := by
  induction k with
  | zero => exact Nat.one_pos
  | succ k ih => have := b01_getD h (p + k); simp only [numB, Nat.pow_succ]; omega
theorem b01_bit8 (c : Nat) : B01 (bit8 c) := by
  intro x hx
  simp only [bit8, List.mem_cons, List.not_mem_nil, or_false] at hx
  omega
theorem b01_app {x y : List Nat} (hx : B01 x) (hy : B01 y) : B01 (x ++ y) := fun z hz => (List.mem_append.1 hz).elim (hx z) (hy z)
theorem b01_bits (s : List UInt8) : B01 (bitsL s) := by
  induction s with
  | nil => intro x hx; cases hx
  | cons c s ih => rw [bits_cons]; exact b01_app (b01_bit8 _) ih

/-- hexadecimal, byte by byte -/
def hexA (s : List UInt8) : List UInt8 := s.flatMap fun c => [hx (c.toNat / 16), hx (c.toNat % 16)]
/-- hexadecimal, bit by bit: the first k characters -/
def hexR (s : List UInt8) (k : Nat) : List UInt8 := (List.range k).map fun i => hx (numB (bitsL s) (4 * i) 4)
theorem hexA_len (s : List UInt8) : (hexA s).length = 2 * s.length := by
  induction s with
  | nil => rfl
  | cons c s ih => unfold hexA at *; rw [List.flatMap_cons, List.length_append, ih, List.length_cons]; simp; omega
theorem range_add (a n : Nat) : List.range (a + n) = List.range a ++ (List.range n).map (fun i => a + i) := List.range_add
theorem c16 : ∀ c, c < 256 → 2 * (2 * (2 * (2 * 0 + c / 128 % 2) + c / 64 % 2) + c / 32 % 2) + c / 16 % 2 = c / 16 := by decide +kernel
theorem c15 : ∀ c, c < 256 → 2 * (2 * (2 * (2 * 0 + c / 8 % 2) + c / 4 % 2) + c / 2 % 2) + c / 1 % 2 = c % 16 := by decide +kernel
theorem hexR_eq (s : List UInt8) : hexR s (2 * s.length) = hexA s := by
  induction s with
  | nil => rfl
  | cons c s ih =>
    have hc : c.toNat < 256 := UInt8.toNat_lt c
    unfold hexR at *
    rw [show 2 * (c :: s).length = 2 + 2 * s.length by rw [List.length_cons]; omega, range_add, List.map_append, List.map_map]
    have e2 : (List.range (2 * s.length)).map ((fun i => hx (numB (bitsL (c :: s)) (4 * i) 4)) ∘ fun i => 2 + i) = (List.range (2 * s.length)).map fun i => hx (numB (bitsL s) (4 * i) 4) := by
      apply List.map_congr_left
      intro i _
      show hx (numB (bitsL (c :: s)) (4 * (2 + i)) 4) = _
      rw [bits_cons, show 4 * (2 + i) = (bit8 c.toNat).length + 4 * i by rw [bit8_len]; omega, numB_app]
    rw [e2, ih]
    have e1 : (List.range 2).map (fun i => hx (numB (bitsL (c :: s)) (4 * i) 4)) = [hx (c.toNat / 16), hx (c.toNat % 16)] := by
      show [hx (numB (bitsL (c :: s)) 0 4), hx (numB (bitsL (c :: s)) 4 4)] = _
      rw [bits_cons, numB_pre _ _ 0 4 (by rw [bit8_len]; omega), numB_pre _ _ 4 4 (by rw [bit8_len]; omega)]
      rw [show numB (bit8 c.toNat) 0 4 = c.toNat / 16 from c16 _ hc, show numB (bit8 c.toNat) 4 4 = c.toNat % 16 from c15 _ hc]
    rw [e1]; rfl
theorem hexR_succ (s : List UInt8) (k : Nat) : hexR s (k + 1) = hexR s k ++ [hx (numB (bitsL s) (4 * k) 4)] := by
  unfold hexR; rw [List.range_succ, List.map_append]; rfl

/-- Base64, byte by byte -/
def g4 (a b c : Nat) : List UInt8 := [sx (a / 4), sx (a % 4 * 16 + b / 16), sx (b % 16 * 4 + c / 64), sx (c % 64)]
def b64A : List UInt8 → List UInt8
  | a :: b :: c :: r => g4 a.toNat b.toNat c.toNat ++ b64A r
  | [a] => [sx (a.toNat / 4), sx (a.toNat % 4 * 16), 61, 61]
  | [a, b] => [sx (a.toNat / 4), sx (a.toNat % 4 * 16 + b.toNat / 16), sx (b.toNat % 16 * 4), 61]
  | [] => []
/-- Base64, bit by bit: the first k characters -/
def b64R (s : List UInt8) (k : Nat) : List UInt8 := (List.range k).map fun i => sx (numB (bitsL s) (6 * i) 6)
theorem b64R_succ (s : List UInt8) (k : Nat) : b64R s (k + 1) = b64R s k ++ [sx (numB (bitsL s) (6 * k) 6)] := by
  unfold b64R; rw [List.range_succ, List.map_append]; rfl
/-- filled up to whole groups of four -/
def padd (l : List UInt8) : List UInt8 := l ++ List.replicate ((4 - l.length % 4) % 4) 61
theorem c4 : ∀ c, c < 256 → 2 * (2 * (2 * (2 * (2 * (2 * 0 + c / 128 % 2) + c / 64 % 2) + c / 32 % 2) + c / 16 % 2) + c / 8 % 2) + c / 4 % 2 = c / 4 := by decide +kernel
theorem cm4 : ∀ c, c < 256 → 2 * (c / 2 % 2) + c / 1 % 2 = c % 4 := by decide +kernel
theorem cm16 : ∀ c, c < 256 → 8 * (c / 8 % 2) + 4 * (c / 4 % 2) + 2 * (c / 2 % 2) + c / 1 % 2 = c % 16 := by decide +kernel
theorem cd16 : ∀ c, c < 256 → 8 * (c / 128 % 2) + 4 * (c / 64 % 2) + 2 * (c / 32 % 2) + c / 16 % 2 = c / 16 := by decide +kernel
theorem cd64 : ∀ c, c < 256 → 2 * (c / 128 % 2) + c / 64 % 2 = c / 64 := by decide +kernel
theorem cm64 : ∀ c, c < 256 → 2 * (2 * (2 * (2 * (2 * (2 * 0 + c / 32 % 2) + c / 16 % 2) + c / 8 % 2) + c / 4 % 2) + c / 2 % 2) + c / 1 % 2 = c % 64 := by decide +kernel
theorem six0 (a : Nat) (ha : a < 256) (r : List Nat) : numB (bit8 a ++ r) 0 6 = a / 4 := by
  rw [numB_pre _ _ 0 6 (by rw [bit8_len]; omega)]; exact c4 a ha
theorem six1 (a b : Nat) (ha : a < 256) (hb : b < 256) (r : List Nat) : numB (bit8 a ++ (bit8 b ++ r)) 6 6 = a % 4 * 16 + b / 16 := by
  have h1 := cm4 a ha
  have h2 := cd16 b hb
  show 2 * (2 * (2 * (2 * (2 * (2 * 0 + a / 2 % 2) + a / 1 % 2) + b / 128 % 2) + b / 64 % 2) + b / 32 % 2) + b / 16 % 2 = _
  generalize a / 2 % 2 = x at *
  generalize a / 1 % 2 = y at *
  generalize b / 128 % 2 = z at *
  generalize b / 64 % 2 = u at *
  generalize b / 32 % 2 = v at *
  generalize b / 16 % 2 = p at *
  omega
theorem six2 (a b c : Nat) (hb : b < 256) (hc : c < 256) (r : List Nat) : numB (bit8 a ++ (bit8 b ++ (bit8 c ++ r))) 12 6 = b % 16 * 4 + c / 64 := by
  have h1 := cm16 b hb
  have h2 := cd64 c hc
  show 2 * (2 * (2 * (2 * (2 * (2 * 0 + b / 8 % 2) + b / 4 % 2) + b / 2 % 2) + b / 1 % 2) + c / 128 % 2) + c / 64 % 2 = _
  generalize b / 8 % 2 = x at *
  generalize b / 4 % 2 = y at *
  generalize b / 2 % 2 = z at *
  generalize b / 1 % 2 = u at *
  generalize c / 128 % 2 = v at *
  generalize c / 64 % 2 = p at *
  omega
theorem six3 (a b c : Nat) (hc : c < 256) (r : List Nat) : numB (bit8 a ++ (bit8 b ++ (bit8 c ++ r))) 18 6 = c % 64 := cm64 c hc
theorem six1' (a : Nat) (ha : a < 256) : numB (bit8 a ++ []) 6 6 = a % 4 * 16 := by
  have h1 := cm4 a ha
  show 2 * (2 * (2 * (2 * (2 * (2 * 0 + a / 2 % 2) + a / 1 % 2) + 0) + 0) + 0) + 0 = _
  generalize a / 2 % 2 = x at *
  generalize a / 1 % 2 = y at *
  omega
theorem six2' (a b : Nat) (hb : b < 256) : numB (bit8 a ++ (bit8 b ++ [])) 12 6 = b % 16 * 4 := by
  have h1 := cm16 b hb
  show 2 * (2 * (2 * (2 * (2 * (2 * 0 + b / 8 % 2) + b / 4 % 2) + b / 2 % 2) + b / 1 % 2) + 0) + 0 = _
  generalize b / 8 % 2 = x at *
  generalize b / 4 % 2 = y at *
  generalize b / 2 % 2 = z at *
  generalize b / 1 % 2 = u at *
  omega
theorem b64R_len (s : List UInt8) (k : Nat) : (b64R s k).length = k := by unfold b64R; simp
theorem b64R_step (a b c : UInt8) (r : List UInt8) (n : Nat) : b64R (a :: b :: c :: r) (4 + n) = g4 a.toNat b.toNat c.toNat ++ b64R r n := by
  have ha : a.toNat < 256 := UInt8.toNat_lt a
  have hb : b.toNat < 256 := UInt8.toNat_lt b
  have hc : c.toNat < 256 := UInt8.toNat_lt c
  unfold b64R
  rw [range_add, List.map_append, List.map_map]
  have eb : bitsL (a :: b :: c :: r) = bit8 a.toNat ++ (bit8 b.toNat ++ (bit8 c.toNat ++ bitsL r)) := rfl
  rw [eb]
  congr 1
  · show [sx (numB _ 0 6), sx (numB _ 6 6), sx (numB _ 12 6), sx (numB _ 18 6)] = _
    rw [six0 _ ha, six1 _ _ ha hb, six2 _ _ _ hb hc, six3 _ _ _ hc]; rfl
  · apply List.map_congr_left
    intro i _
    show sx (numB _ (6 * (4 + i)) 6) = _
    rw [← List.append_assoc, ← List.append_assoc, show 6 * (4 + i) = (bit8 a.toNat ++ bit8 b.toNat ++ bit8 c.toNat).length + 6 * i by simp [bit8_len]; omega, numB_app]
theorem b64R_one (a : UInt8) : b64R [a] 2 = [sx (numB (bit8 a.toNat ++ []) 0 6), sx (numB (bit8 a.toNat ++ []) 6 6)] := rfl
theorem b64R_two (a b : UInt8) : b64R [a, b] 3 = [sx (numB (bit8 a.toNat ++ (bit8 b.toNat ++ [])) 0 6), sx (numB (bit8 a.toNat ++ (bit8 b.toNat ++ [])) 6 6), sx (numB (bit8 a.toNat ++ (bit8 b.toNat ++ [])) 12 6)] := rfl
theorem padd_two (x y : UInt8) : padd [x, y] = [x, y, 61, 61] := rfl
theorem padd_three (x y z : UInt8) : padd [x, y, z] = [x, y, z, 61] := rfl
theorem b64_eq : ∀ s : List UInt8, padd (b64R s ((8 * s.length + 5) / 6)) = b64A s
  | [] => by simp [b64R, padd, b64A]
  | [a] => by
    have ha : a.toNat < 256 := UInt8.toNat_lt a
    rw [show (8 * [a].length + 5) / 6 = 2 by simp, b64R_one, six0 _ ha, six1' _ ha, padd_two, b64A]
  | [a, b] => by
    have ha : a.toNat < 256 := UInt8.toNat_lt a
    have hb : b.toNat < 256 := UInt8.toNat_lt b
    rw [show (8 * [a, b].length + 5) / 6 = 3 by simp, b64R_two, six0 _ ha, six1 _ _ ha hb, six2' _ _ hb, padd_three, b64A]
  | a :: b :: c :: r => by
    have ih := b64_eq r
    rw [show (8 * (a :: b :: c :: r).length + 5) / 6 = 4 + (8 * r.length + 5) / 6 by simp only [List.length_cons]; omega, b64R_step]
    unfold padd at ih ⊢
    rw [List.append_assoc]
    show _ = g4 _ _ _ ++ b64A r
    rw [← ih]
    congr 3
    rw [List.length_append, show (g4 a.toNat b.toNat c.toNat).length = 4 from rfl]
    omega
theorem b64A_len : ∀ s : List UInt8, (b64A s).length = (s.length + 2) / 3 * 4
  | [] => rfl
  | [a] => by simp [b64A]
  | [a, b] => by simp [b64A]
  | a :: b :: c :: r => by
    have ih := b64A_len r
    show (g4 _ _ _ ++ b64A r).length = _
    rw [List.length_append, ih, show (g4 a.toNat b.toNat c.toNat).length = 4 from rfl]
    simp only [List.length_cons]; omega
theorem b64A_app : ∀ a b : List UInt8, a.length % 3 = 0 → b64A (a ++ b) = b64A a ++ b64A b
  | [], b, _ => rfl
  | [x], b, h => by simp at h
  | [x, y], b, h => by simp at h
  | x :: y :: z :: r, b, h => by
    have ih := b64A_app r b (by simp only [List.length_cons] at h; omega)
    show g4 _ _ _ ++ b64A (r ++ b) = (g4 _ _ _ ++ b64A r) ++ b64A b
    rw [ih, List.append_assoc]
theorem hexA_app (a b : List UInt8) : hexA (a ++ b) = hexA a ++ hexA b := by unfold hexA; rw [List.flatMap_append]
end Go.Proofs.YtnngadbmfdfmfaaDoor
