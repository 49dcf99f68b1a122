/-
  Helper (plain lists, no program): UTF-8 sequences at the beginning of a list of bytes: what the model's reading of a string says of them, and what the reference's tries say.
-/
import Derived.Laws.RangeAny
import Derived.Lib.Strings
namespace Go.Proofs.YtpebgggdpgppdaaDoor
set_option linter.unusedVariables false

def cont (x : Nat) : Prop := 128 ≤ x ∧ x ≤ 191
instance (x : Nat) : Decidable (cont x) := inferInstanceAs (Decidable (_ ∧ _))
def arm4 (a b c d : Nat) : Nat × Nat := if (240 ≤ a ∧ a < 248) ∧ cont b ∧ cont c ∧ cont d then (if 65536 ≤ 64 * (64 * (64 * (a - 240) + b - 128) + c - 128) + d - 128 ∧ 64 * (64 * (64 * (a - 240) + b - 128) + c - 128) + d - 128 ≤ 1114111 then (64 * (64 * (64 * (a - 240) + b - 128) + c - 128) + d - 128, 4) else (0, 0)) else (0, 0)
def arm3 (a b c : Nat) (r : Nat × Nat) : Nat × Nat := if (224 ≤ a ∧ a < 240) ∧ cont b ∧ cont c then (if 2048 ≤ 64 * (64 * (a - 224) + b - 128) + c - 128 ∧ ¬ (55296 ≤ 64 * (64 * (a - 224) + b - 128) + c - 128 ∧ 64 * (64 * (a - 224) + b - 128) + c - 128 ≤ 57343) then (64 * (64 * (a - 224) + b - 128) + c - 128, 3) else (0, 0)) else r
def arm2 (a b : Nat) (r : Nat × Nat) : Nat × Nat := if (192 ≤ a ∧ a < 224) ∧ cont b then (if 128 ≤ 64 * (a - 192) + b - 128 then (64 * (a - 192) + b - 128, 2) else (0, 0)) else r
def arm1 (a : Nat) (r : Nat × Nat) : Nat × Nat := if a < 128 then (a, 1) else r
/-- the scalar and the length of the well-formed sequence at the beginning of a list of bytes; length 0 if there is none -/
def seq : List Nat → Nat × Nat
  | [] => (0, 0)
  | [a] => arm1 a (0, 0)
  | [a, b] => arm1 a (arm2 a b (0, 0))
  | [a, b, c] => arm1 a (arm2 a b (arm3 a b c (0, 0)))
  | a :: b :: c :: d :: _ => arm1 a (arm2 a b (arm3 a b c (arm4 a b c d)))

/-- the bytes of a string from place i on, as numbers -/
def bytesFrom (s : ByteArray) (i : Nat) : List Nat := (s.data.toList.drop i).map (·.toNat)

theorem get_nat (s : ByteArray) (p : Nat) (h : p < s.size) : (s.get! p).toNat = (s.data.toList[p]'(by simpa using h)).toNat := by
  have := get_at s p h
  rw [show p + 0 = p from rfl] at this
  rw [this]; rfl

theorem bytesFrom_cons (s : ByteArray) (i : Nat) (h : i < s.size) : bytesFrom s i = (s.get! i).toNat :: bytesFrom s (i + 1) := by
  unfold bytesFrom
  rw [List.drop_eq_getElem_cons (by simpa using h), List.map_cons, get_nat s i h]
theorem bytesFrom_end (s : ByteArray) (i : Nat) (h : ¬ i < s.size) : bytesFrom s i = [] := by
  unfold bytesFrom
  rw [List.drop_eq_nil_of_le (by simpa using h)]; rfl
theorem get_lt (s : ByteArray) (p : Nat) : (s.get! p).toNat < 256 := (s.get! p).toNat_lt


/-- the model's own reading, over numbers: c1, c2, c3: is there a first, second, third byte behind -/
def decN (c1 c2 c3 : Bool) (a b c d : Nat) : Nat × Nat :=
  if a < 128 then (a, 1)
  else if a / 32 = 6 ∧ (c1 = true ∧ b / 64 = 2) then (if 128 ≤ (a % 32) * 64 + b % 64 then ((a % 32) * 64 + b % 64, 2) else (65533, 1))
  else if a / 16 = 14 ∧ (c1 = true ∧ b / 64 = 2) ∧ (c2 = true ∧ c / 64 = 2) then (if 2048 ≤ (a % 16) * 4096 + (b % 64) * 64 + c % 64 ∧ ((a % 16) * 4096 + (b % 64) * 64 + c % 64 < 55296 ∨ (57344 ≤ (a % 16) * 4096 + (b % 64) * 64 + c % 64 ∧ (a % 16) * 4096 + (b % 64) * 64 + c % 64 ≤ 1114111)) then ((a % 16) * 4096 + (b % 64) * 64 + c % 64, 3) else (65533, 1))
  else if a / 8 = 30 ∧ (c1 = true ∧ b / 64 = 2) ∧ (c2 = true ∧ c / 64 = 2) ∧ (c3 = true ∧ d / 64 = 2) then (if 65536 ≤ (a % 8) * 262144 + (b % 64) * 4096 + (c % 64) * 64 + d % 64 ∧ ((a % 8) * 262144 + (b % 64) * 4096 + (c % 64) * 64 + d % 64 < 55296 ∨ (57344 ≤ (a % 8) * 262144 + (b % 64) * 4096 + (c % 64) * 64 + d % 64 ∧ (a % 8) * 262144 + (b % 64) * 4096 + (c % 64) * 64 + d % 64 ≤ 1114111)) then ((a % 8) * 262144 + (b % 64) * 4096 + (c % 64) * 64 + d % 64, 4) else (65533, 1))
  else (65533, 1)

theorem valid_iff (n : Nat) : Utf8.valid n = true ↔ (n < 55296 ∨ (57344 ≤ n ∧ n ≤ 1114111)) := by
  unfold Utf8.valid; simp; omega

theorem decode_decN (s : ByteArray) (i : Nat) : Utf8.decode s i = decN (i + 1 < s.size) (i + 2 < s.size) (i + 3 < s.size) (s.get! i).toNat (s.get! (i + 1)).toNat (s.get! (i + 2)).toNat (s.get! (i + 3)).toNat := by
  unfold Utf8.decode decN Utf8.runeError
  have hv := valid_iff
  simp only [Nat.add_zero]
  simp only [Bool.and_eq_true, beq_iff_eq, decide_eq_true_eq, ge_iff_le, hv, and_assoc]

theorem bad_ite (c : Prop) [Decidable c] (v k : Nat) (hk : k ≠ 0) : (if c then (v, k) else ((65533, 1) : Nat × Nat)) = if (if c then (v, k) else ((0, 0) : Nat × Nat)).2 = 0 then (65533, 1) else (if c then (v, k) else (0, 0)) := by
  split <;> simp
theorem bad_ite_l (c d : Prop) [Decidable c] [Decidable d] (v k : Nat) (hk : k ≠ 0) (r r' : Nat × Nat) (h : r = if r'.2 = 0 then (65533, 1) else r') :
    (if c then (if d then (v, k) else ((65533, 1) : Nat × Nat)) else r) = if (if c then (if d then (v, k) else ((0, 0) : Nat × Nat)) else r').2 = 0 then (65533, 1) else (if c then (if d then (v, k) else (0, 0)) else r') := by
  by_cases hc : c
  · simp only [hc, if_true]; exact bad_ite d v k hk
  · simp only [hc, if_false]; exact h
theorem one_ite (c : Prop) [Decidable c] (v : Nat) (r r' : Nat × Nat) (h : ¬ c → r = if r'.2 = 0 then (65533, 1) else r') : (if c then (v, 1) else r) = if (if c then ((v, 1) : Nat × Nat) else r').2 = 0 then (65533, 1) else (if c then (v, 1) else r') := by
  by_cases hc : c
  · simp [hc]
  · simp only [hc, if_false]; exact h hc
theorem i2 (a b : Nat) (hb : b < 256) : (a / 32 = 6 ∧ (True ∧ b / 64 = 2)) ↔ ((192 ≤ a ∧ a < 224) ∧ cont b) := by unfold cont; simp only [true_and]; omega
theorem i3 (a b c : Nat) (hb : b < 256) (hc : c < 256) : (a / 16 = 14 ∧ (True ∧ b / 64 = 2) ∧ (True ∧ c / 64 = 2)) ↔ ((224 ≤ a ∧ a < 240) ∧ cont b ∧ cont c) := by unfold cont; simp only [true_and]; omega
theorem i4 (a b c d : Nat) (hb : b < 256) (hc : c < 256) (hd : d < 256) : (a / 8 = 30 ∧ (True ∧ b / 64 = 2) ∧ (True ∧ c / 64 = 2) ∧ (True ∧ d / 64 = 2)) ↔ ((240 ≤ a ∧ a < 248) ∧ cont b ∧ cont c ∧ cont d) := by unfold cont; simp only [true_and]; omega
theorem v2 (a b : Nat) (h : (192 ≤ a ∧ a < 224) ∧ cont b) : a % 32 * 64 + b % 64 = 64 * (a - 192) + b - 128 := by unfold cont at h; omega
theorem v3 (a b c : Nat) (h : (224 ≤ a ∧ a < 240) ∧ cont b ∧ cont c) : a % 16 * 4096 + b % 64 * 64 + c % 64 = 64 * (64 * (a - 224) + b - 128) + c - 128 := by unfold cont at h; omega
theorem v4 (a b c d : Nat) (h : (240 ≤ a ∧ a < 248) ∧ cont b ∧ cont c ∧ cont d) : a % 8 * 262144 + b % 64 * 4096 + c % 64 * 64 + d % 64 = 64 * (64 * (64 * (a - 240) + b - 128) + c - 128) + d - 128 := by unfold cont at h; omega
theorem hi3 (a b c : Nat) (h : (224 ≤ a ∧ a < 240) ∧ cont b ∧ cont c) : 64 * (64 * (a - 224) + b - 128) + c - 128 < 65536 := by unfold cont at h; omega

/-- what the model reads for a malformed beginning -/
def orBad (r : Nat × Nat) : Nat × Nat := if r.2 = 0 then (65533, 1) else r
theorem orBad_arm1 (a : Nat) (r : Nat × Nat) : orBad (arm1 a r) = if a < 128 then (a, 1) else orBad r := by unfold orBad arm1; by_cases h : a < 128 <;> simp [h]
theorem orBad_arm2 (a b : Nat) (r : Nat × Nat) : orBad (arm2 a b r) = if (192 ≤ a ∧ a < 224) ∧ cont b then (if 128 ≤ 64 * (a - 192) + b - 128 then (64 * (a - 192) + b - 128, 2) else (65533, 1)) else orBad r := (bad_ite_l _ _ _ _ (by omega) _ _ rfl).symm
theorem orBad_arm3 (a b c : Nat) (r : Nat × Nat) : orBad (arm3 a b c r) = if (224 ≤ a ∧ a < 240) ∧ cont b ∧ cont c then (if 2048 ≤ 64 * (64 * (a - 224) + b - 128) + c - 128 ∧ ¬ (55296 ≤ 64 * (64 * (a - 224) + b - 128) + c - 128 ∧ 64 * (64 * (a - 224) + b - 128) + c - 128 ≤ 57343) then (64 * (64 * (a - 224) + b - 128) + c - 128, 3) else (65533, 1)) else orBad r := (bad_ite_l _ _ _ _ (by omega) _ _ rfl).symm
theorem orBad_arm4 (a b c d : Nat) : orBad (arm4 a b c d) = if (240 ≤ a ∧ a < 248) ∧ cont b ∧ cont c ∧ cont d then (if 65536 ≤ 64 * (64 * (64 * (a - 240) + b - 128) + c - 128) + d - 128 ∧ 64 * (64 * (64 * (a - 240) + b - 128) + c - 128) + d - 128 ≤ 1114111 then (64 * (64 * (64 * (a - 240) + b - 128) + c - 128) + d - 128, 4) else (65533, 1)) else (65533, 1) := (bad_ite_l _ _ _ _ (by omega) _ _ rfl).symm
theorem step_ite (c c' : Prop) [Decidable c] [Decidable c'] (x x' r r' : Nat × Nat) (hc : c ↔ c') (hx : c' → x = x') (hr : ¬ c' → r = r') : (if c then x else r) = if c' then x' else r' := by
  by_cases h : c'
  · rw [if_pos h, if_pos (hc.2 h)]; exact hx h
  · rw [if_neg h, if_neg (fun g => h (hc.1 g))]; exact hr h
theorem bad0 : ((65533, 1) : Nat × Nat) = orBad (0, 0) := rfl
theorem dec1 (a b c d : Nat) : decN false false false a b c d = orBad (seq [a]) := by
  rw [seq, orBad_arm1]
  simp only [decN, Bool.false_eq_true, false_and, and_false, if_false]
  rfl
theorem dec2 (a b : Nat) (hb : b < 256) (c d : Nat) : decN true false false a b c d = orBad (seq [a, b]) := by
  rw [seq, orBad_arm1, orBad_arm2]
  simp only [decN, Bool.false_eq_true, false_and, and_false, if_false]
  refine step_ite _ _ _ _ _ _ Iff.rfl (fun _ => rfl) fun _ => ?_
  exact step_ite _ _ _ _ _ _ (i2 a b hb) (fun h => by rw [v2 a b h]) fun _ => rfl
theorem dec3 (a b c : Nat) (hb : b < 256) (hc : c < 256) (d : Nat) : decN true true false a b c d = orBad (seq [a, b, c]) := by
  rw [seq, orBad_arm1, orBad_arm2, orBad_arm3]
  simp only [decN, Bool.false_eq_true, false_and, and_false, if_false]
  refine step_ite _ _ _ _ _ _ Iff.rfl (fun _ => rfl) fun _ => ?_
  refine step_ite _ _ _ _ _ _ (i2 a b hb) (fun h => by rw [v2 a b h]) fun _ => ?_
  exact step_ite _ _ _ _ _ _ (i3 a b c hb hc) (fun h => by rw [v3 a b c h]; have := hi3 a b c h; exact step_ite _ _ _ _ _ _ (by omega) (fun _ => rfl) fun _ => rfl) fun _ => rfl
theorem dec4 (a b c d : Nat) (t : List Nat) (hb : b < 256) (hc : c < 256) (hd : d < 256) : decN true true true a b c d = orBad (seq (a :: b :: c :: d :: t)) := by
  rw [seq, orBad_arm1, orBad_arm2, orBad_arm3, orBad_arm4]
  simp only [decN]
  refine step_ite _ _ _ _ _ _ Iff.rfl (fun _ => rfl) fun _ => ?_
  refine step_ite _ _ _ _ _ _ (i2 a b hb) (fun h => by rw [v2 a b h]) fun _ => ?_
  refine step_ite _ _ _ _ _ _ (i3 a b c hb hc) (fun h => by rw [v3 a b c h]; have := hi3 a b c h; exact step_ite _ _ _ _ _ _ (by omega) (fun _ => rfl) fun _ => rfl) fun _ => ?_
  exact step_ite _ _ _ _ _ _ (i4 a b c d hb hc hd) (fun h => by rw [v4 a b c d h]; exact step_ite _ _ _ _ _ _ (by omega) (fun _ => rfl) fun _ => rfl) fun _ => rfl
theorem decode_seq (s : ByteArray) (i : Nat) (h : i < s.size) : Utf8.decode s i = orBad (seq (bytesFrom s i)) := by
  have h0 := get_lt s i
  have h1 := get_lt s (i + 1)
  have h2 := get_lt s (i + 2)
  have h3 := get_lt s (i + 3)
  rw [bytesFrom_cons s i h, decode_decN]
  by_cases g1 : i + 1 < s.size
  · rw [bytesFrom_cons s (i + 1) g1]
    by_cases g2 : i + 2 < s.size
    · rw [bytesFrom_cons s (i + 1 + 1) g2]
      by_cases g3 : i + 3 < s.size
      · rw [bytesFrom_cons s (i + 1 + 1 + 1) g3]
        simp only [g1, g2, g3, decide_true]
        exact dec4 _ _ _ _ _ h1 h2 h3
      · rw [bytesFrom_end s (i + 1 + 1 + 1) g3]
        simp only [g1, g2, g3, decide_true, decide_false]
        exact dec3 _ _ _ h1 h2 _
    · rw [bytesFrom_end s (i + 1 + 1) g2]
      have g3 : ¬ i + 3 < s.size := by omega
      simp only [g1, g2, g3, decide_true, decide_false]
      exact dec2 _ _ h1 _ _
  · rw [bytesFrom_end s (i + 1) g1]
    have g2 : ¬ i + 2 < s.size := by omega
    have g3 : ¬ i + 3 < s.size := by omega
    simp only [g1, g2, g3, decide_false]
    exact dec1 _ _ _ _
/-- the first byte's part of the reference: the length, the bits, the least and the greatest number -/
def lim (c : Nat) : Nat × Nat × Nat × Nat :=
  if 240 ≤ c ∧ c < 248 then (4, c - 240, 65536, 1114111)
  else if 224 ≤ c ∧ c < 240 then (3, c - 224, 2048, 65535)
  else if 192 ≤ c ∧ c < 224 then (2, c - 192, 128, 2047)
  else (0, 0, 0, 0)
def conts : Nat → List Nat → Option Nat
  | v, [] => some v
  | v, x :: xs => if x < 128 ∨ 191 < x then none else conts (64 * v + x - 128) xs
def widen : Nat → Nat × Nat → Nat × Nat
  | 0, p => p
  | k + 1, p => widen k (64 * p.1, 64 * p.2 + 63)
def judge (L : Nat × Nat × Nat × Nat) (p : Nat × Nat) : Nat × Nat :=
  if p.2 < L.2.2.1 ∨ L.2.2.2 < p.1 ∨ (55296 ≤ p.1 ∧ p.2 ≤ 57343) then (0, 0) else (p.1, L.1)
def begins : List Nat → Nat × Nat
  | [] => (0, 0)
  | c :: xs =>
    if c < 128 ∧ xs.length = 0 then (c, 1) else
    if (lim c).1 < xs.length + 1 then (0, 0) else
    match conts (lim c).2.1 xs with
    | none => (0, 0)
    | some v => judge (lim c) (widen ((lim c).1 - (xs.length + 1)) (v, v))
/-- the reference's At, from its k-th try on -/
def tryAt (l : List Nat) : Nat → Nat → Nat × Nat
  | 0, _ => (0, 0)
  | f + 1, k => if 4 < k ∨ l.length < k then (0, 0) else if (begins (l.take k)).2 = k then begins (l.take k) else tryAt l f (k + 1)

theorem lim1 (c : Nat) (h : c < 192 ∨ 248 ≤ c) : lim c = (0, 0, 0, 0) := by unfold lim; rw [if_neg (by omega), if_neg (by omega), if_neg (by omega)]
theorem lim2 (c : Nat) (h : 192 ≤ c ∧ c < 224) : lim c = (2, c - 192, 128, 2047) := by unfold lim; rw [if_neg (by omega), if_neg (by omega), if_pos (by omega)]
theorem lim3 (c : Nat) (h : 224 ≤ c ∧ c < 240) : lim c = (3, c - 224, 2048, 65535) := by unfold lim; rw [if_neg (by omega), if_pos (by omega)]
theorem lim4 (c : Nat) (h : 240 ≤ c ∧ c < 248) : lim c = (4, c - 240, 65536, 1114111) := by unfold lim; rw [if_pos (by omega)]
/-- the length that begins answers is 0, 1 or the first byte's -/
theorem judge_len (L : Nat × Nat × Nat × Nat) (p : Nat × Nat) : (judge L p).2 = 0 ∨ (judge L p).2 = L.1 := by unfold judge; split <;> simp
theorem begins_len (c : Nat) (xs : List Nat) (h : 128 ≤ c ∨ xs.length ≠ 0) : (begins (c :: xs)).2 = 0 ∨ (begins (c :: xs)).2 = (lim c).1 := by
  rw [begins, if_neg (by omega)]
  split
  · simp
  · split
    · simp
    · exact judge_len _ _
theorem begins_fix (c : Nat) (xs : List Nat) (h : 128 ≤ c ∨ xs.length ≠ 0) (k : Nat) (hk : k ≠ 0) (hl : (lim c).1 ≠ k) : (begins (c :: xs)).2 ≠ k := by
  rcases begins_len c xs h with e | e <;> omega
theorem conts_len1 (v x : Nat) : conts v [x] = if cont x then some (64 * v + x - 128) else none := by
  rw [conts, conts]; by_cases h : x < 128 ∨ 191 < x
  · rw [if_pos h, if_neg (fun g => by unfold cont at g; omega)]
  · rw [if_neg h, if_pos (by unfold cont; omega)]
theorem conts_cons (v x : Nat) (xs : List Nat) : conts v (x :: xs) = if cont x then conts (64 * v + x - 128) xs else none := by
  rw [conts]; by_cases h : x < 128 ∨ 191 < x
  · rw [if_pos h, if_neg (fun g => by unfold cont at g; omega)]
  · rw [if_neg h, if_pos (by unfold cont; omega)]
theorem begins2 (a b : Nat) (h : 192 ≤ a ∧ a < 224) : begins [a, b] = arm2 a b (0, 0) := by
  unfold arm2
  rw [begins, if_neg (by simp), lim2 a h, if_neg (by simp), conts_len1]
  by_cases hb : cont b
  · rw [if_pos hb, if_pos ⟨h, hb⟩]
    simp only [judge, List.length_cons, List.length_nil, Nat.zero_add, Nat.reduceAdd, Nat.reduceSub, widen]
    unfold cont at hb
    by_cases g : 128 ≤ 64 * (a - 192) + b - 128
    · rw [if_neg (by omega), if_pos g]
    · rw [if_pos (by omega), if_neg g]
  · rw [if_neg hb, if_neg (fun g => hb g.2)]
theorem begins3 (a b c : Nat) (h : 224 ≤ a ∧ a < 240) : begins [a, b, c] = arm3 a b c (0, 0) := by
  unfold arm3
  rw [begins, if_neg (by simp), lim3 a h, if_neg (by simp), conts_cons]
  by_cases hb : cont b
  · rw [if_pos hb, conts_len1]
    by_cases hc : cont c
    · rw [if_pos hc, if_pos ⟨h, hb, hc⟩]
      simp only [judge, List.length_cons, List.length_nil, Nat.zero_add, Nat.reduceAdd, Nat.reduceSub, widen]
      unfold cont at hb hc
      by_cases g : 2048 ≤ 64 * (64 * (a - 224) + b - 128) + c - 128 ∧ ¬ (55296 ≤ 64 * (64 * (a - 224) + b - 128) + c - 128 ∧ 64 * (64 * (a - 224) + b - 128) + c - 128 ≤ 57343)
      · rw [if_neg (by omega), if_pos g]
      · rw [if_pos (by omega), if_neg g]
    · rw [if_neg hc, if_neg (fun g => hc g.2.2)]
  · rw [if_neg hb, if_neg (fun g => hb g.2.1)]
theorem begins4 (a b c d : Nat) (h : 240 ≤ a ∧ a < 248) : begins [a, b, c, d] = arm4 a b c d := by
  unfold arm4
  rw [begins, if_neg (by simp), lim4 a h, if_neg (by simp), conts_cons]
  by_cases hb : cont b
  · rw [if_pos hb, conts_cons]
    by_cases hc : cont c
    · rw [if_pos hc, conts_len1]
      by_cases hd : cont d
      · rw [if_pos hd, if_pos ⟨h, hb, hc, hd⟩]
        simp only [judge, List.length_cons, List.length_nil, Nat.zero_add, Nat.reduceAdd, Nat.reduceSub, widen]
        unfold cont at hb hc hd
        by_cases g : 65536 ≤ 64 * (64 * (64 * (a - 240) + b - 128) + c - 128) + d - 128 ∧ 64 * (64 * (64 * (a - 240) + b - 128) + c - 128) + d - 128 ≤ 1114111
        · rw [if_neg (by omega), if_pos g]
        · rw [if_pos (by omega), if_neg g]
      · rw [if_neg hd, if_neg (fun g => hd g.2.2.2)]
    · rw [if_neg hc, if_neg (fun g => hc g.2.2.1)]
  · rw [if_neg hb, if_neg (fun g => hb g.2.1)]
theorem try_past (l : List Nat) (f k : Nat) (h : 4 < k ∨ l.length < k) : tryAt l f k = (0, 0) := by cases f <;> simp [tryAt, h]
/-- one try that finds its length, or goes on -/
theorem try_step (l : List Nat) (f k : Nat) (hk : k ≤ 4) (hl : k ≤ l.length) : tryAt l (f + 1) k = if (begins (l.take k)).2 = k then begins (l.take k) else tryAt l f (k + 1) := by
  rw [tryAt, if_neg (by omega)]
theorem arm2_out (a b : Nat) (r) (h : ¬ (192 ≤ a ∧ a < 224)) : arm2 a b r = r := by unfold arm2; rw [if_neg (fun g => h g.1)]
theorem arm3_out (a b c : Nat) (r) (h : ¬ (224 ≤ a ∧ a < 240)) : arm3 a b c r = r := by unfold arm3; rw [if_neg (fun g => h g.1)]
theorem arm4_out (a b c d : Nat) (h : ¬ (240 ≤ a ∧ a < 248)) : arm4 a b c d = (0, 0) := by unfold arm4; rw [if_neg (fun g => h g.1)]
theorem ite_len (c d : Prop) [Decidable c] [Decidable d] (v k : Nat) : (if c then (if d then (v, k) else ((0, 0) : Nat × Nat)) else (0, 0)).2 = k ∨ (if c then (if d then (v, k) else ((0, 0) : Nat × Nat)) else (0, 0)) = (0, 0) := by
  by_cases hc : c
  · by_cases hd : d <;> simp [hc, hd]
  · simp [hc]
theorem arm2_len (a b : Nat) : (arm2 a b (0, 0)).2 = 2 ∨ arm2 a b (0, 0) = (0, 0) := ite_len _ _ _ _
theorem arm3_len (a b c : Nat) : (arm3 a b c (0, 0)).2 = 3 ∨ arm3 a b c (0, 0) = (0, 0) := by exact ite_len _ _ _ _
theorem arm4_len (a b c d : Nat) : (arm4 a b c d).2 = 4 ∨ arm4 a b c d = (0, 0) := by exact ite_len _ _ _ _
theorem lim_le (a : Nat) : (lim a).1 = 0 ∨ 2 ≤ (lim a).1 := by
  by_cases h : 240 ≤ a ∧ a < 248
  · rw [lim4 a h]; simp
  · by_cases g : 224 ≤ a ∧ a < 240
    · rw [lim3 a g]; simp
    · by_cases k : 192 ≤ a ∧ a < 224
      · rw [lim2 a k]; simp
      · rw [lim1 a (by omega)]; simp
/-- a byte beyond ASCII: no first try finds -/
theorem try1 (a : Nat) (t : List Nat) (f : Nat) (h : 128 ≤ a) : tryAt (a :: t) (f + 1) 1 = tryAt (a :: t) f 2 := by
  rw [try_step _ _ _ (by omega) (by simp), if_neg]
  have := begins_fix a [] (Or.inl h) 1 (by omega) (by rcases lim_le a with e | e <;> omega)
  simpa using this
theorem try_miss (a : Nat) (t : List Nat) (f k : Nat) (h : 128 ≤ a) (hk : 1 ≤ k) (hl : (lim a).1 ≠ k) : tryAt (a :: t) (f + 1) k = tryAt (a :: t) f (k + 1) := by
  by_cases g : 4 < k ∨ (a :: t).length < k
  · rw [try_past _ _ _ g, try_past _ _ _ (by omega)]
  · rw [try_step _ _ _ (by omega) (by omega), if_neg]
    obtain ⟨j, rfl⟩ : ∃ j, k = j + 1 := ⟨k - 1, by omega⟩
    rw [List.take_succ_cons]
    exact begins_fix a _ (Or.inl h) _ (by omega) hl
theorem tryAt_seq (l : List Nat) : tryAt l 4 1 = seq l := by
  cases l with
  | nil => rfl
  | cons a t =>
    by_cases h1 : a < 128
    · rw [try_step _ _ _ (by omega) (by simp)]
      have hb : begins [a] = (a, 1) := by simp [begins, h1]
      simp only [List.take_succ_cons, List.take_zero, hb, if_true]
      match t with
      | [] => simp [seq, arm1, h1]
      | [_] => simp [seq, arm1, h1]
      | [_, _] => simp [seq, arm1, h1]
      | _ :: _ :: _ :: _ => simp [seq, arm1, h1]
    · have h128 : 128 ≤ a := by omega
      have A1 : ∀ r, arm1 a r = r := fun r => by unfold arm1; rw [if_neg h1]
      rw [try1 a t 3 h128]
      by_cases k2 : 192 ≤ a ∧ a < 224
      · have L2 : (lim a).1 = 2 := by rw [lim2 a k2]
        have rest : ∀ f k, 3 ≤ k → tryAt (a :: t) f k = (0, 0) := by
          intro f
          induction f with
          | zero => intro k _; rfl
          | succ f ih => intro k hk; rw [try_miss a t f k h128 (by omega) (by omega)]; exact ih _ (by omega)
        match t with
        | [] => simp [tryAt, seq, A1]
        | b :: t =>
          rw [try_step _ _ _ (by omega) (by simp), rest 2 3 (by omega)]
          simp only [List.take_succ_cons, List.take_zero, begins2 a b k2]
          have e : seq (a :: b :: t) = arm2 a b (0, 0) := by
            match t with
            | [] => simp [seq, A1]
            | [c] => simp [seq, A1, arm3_out a b c _ (by omega : ¬ (224 ≤ a ∧ a < 240))]
            | c :: d :: _ => simp [seq, A1, arm3_out a b c _ (by omega : ¬ (224 ≤ a ∧ a < 240)), arm4_out a b c d (by omega)]
          rw [e]
          rcases arm2_len a b with g | g <;> simp [g]
      · rw [try_miss a t 2 2 h128 (by omega) (by rcases Nat.lt_or_ge a 192 with g | g; (rw [lim1 a (Or.inl g)]; simp); (by_cases k3 : 224 ≤ a ∧ a < 240; (rw [lim3 a k3]; simp); (by_cases k4 : 240 ≤ a ∧ a < 248; (rw [lim4 a k4]; simp); (rw [lim1 a (by omega)]; simp))))]
        by_cases k3 : 224 ≤ a ∧ a < 240
        · have L3 : (lim a).1 = 3 := by rw [lim3 a k3]
          match t with
          | [] => simp [tryAt, seq, A1]
          | [b] => simp [tryAt, seq, A1, arm2_out a b _ k2]
          | b :: c :: t =>
            rw [try_step _ _ _ (by omega) (by simp), try_miss a _ 0 4 h128 (by omega) (by omega)]
            simp only [List.take_succ_cons, List.take_zero, begins3 a b c k3]
            have e : seq (a :: b :: c :: t) = arm3 a b c (0, 0) := by
              match t with
              | [] => simp [seq, A1, arm2_out a b _ k2]
              | d :: _ => simp [seq, A1, arm2_out a b _ k2, arm4_out a b c d (by omega)]
            rw [e]
            rcases arm3_len a b c with g | g <;> simp [g, tryAt]
        · rw [try_miss a t 1 3 h128 (by omega) (by by_cases k4 : 240 ≤ a ∧ a < 248; (rw [lim4 a k4]; simp); (rw [lim1 a (by omega)]; simp))]
          match t with
          | [] => simp [tryAt, seq, A1]
          | [b] => simp [tryAt, seq, A1, arm2_out a b _ k2]
          | [b, c] => simp [tryAt, seq, A1, arm2_out a b _ k2, arm3_out a b c _ k3]
          | b :: c :: d :: t =>
            rw [try_step _ _ _ (by omega) (by simp)]
            simp only [List.take_succ_cons, List.take_zero, seq, A1, arm2_out a b _ k2, arm3_out a b c _ k3]
            by_cases k4 : 240 ≤ a ∧ a < 248
            · have e4 := begins4 a b c d k4
              show (if (begins [a, b, c, d]).2 = 4 then begins [a, b, c, d] else (0, 0)) = arm4 a b c d
              rw [e4]
              rcases arm4_len a b c d with g | g <;> simp [g]
            · rw [arm4_out a b c d k4]
              have hne := begins_fix a [b, c, d] (Or.inl h128) 4 (by omega) (by rw [lim1 a (by omega)]; simp)
              exact if_neg hne

/-- the reference's At at a place of a string -/
theorem seq_len_le (l : List Nat) : (seq l).2 ≤ l.length ∧ (seq l).2 ≤ 4 := by
  match l with
  | [] => simp [seq]
  | [a] => simp only [seq, arm1]; by_cases h : a < 128 <;> simp [h]
  | [a, b] =>
    simp only [seq, arm1]
    by_cases h : a < 128
    · simp [h]
    · simp only [h, if_false]
      rcases arm2_len a b with g | g <;> simp [g]
  | [a, b, c] =>
    simp only [seq, arm1]
    by_cases h : a < 128
    · simp [h]
    · simp only [h, if_false]
      by_cases k : 192 ≤ a ∧ a < 224
      · rw [arm3_out a b c _ (by omega)]
        rcases arm2_len a b with g | g <;> simp [g]
      · rw [arm2_out a b _ k]
        rcases arm3_len a b c with g | g <;> simp [g]
  | a :: b :: c :: d :: t =>
    simp only [seq, arm1, List.length_cons]
    by_cases h : a < 128
    · simp [h]
    · simp only [h, if_false]
      by_cases k : 192 ≤ a ∧ a < 224
      · rw [arm3_out a b c _ (by omega), arm4_out a b c d (by omega)]
        rcases arm2_len a b with g | g <;> simp [g]
      · rw [arm2_out a b _ k]
        by_cases k3 : 224 ≤ a ∧ a < 240
        · rw [arm4_out a b c d (by omega)]
          rcases arm3_len a b c with g | g <;> simp [g]
        · rw [arm3_out a b c _ k3]
          rcases arm4_len a b c d with g | g <;> simp [g]
end Go.Proofs.YtpebgggdpgppdaaDoor
