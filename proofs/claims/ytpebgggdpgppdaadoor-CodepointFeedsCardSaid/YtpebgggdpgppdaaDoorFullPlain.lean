/-
  Helper (plain): when a list of bytes is a beginning that more bytes may complete, by the first byte's class.
-/
import Derived.Test.YtpebgggdpgppdaaDoorScan
namespace Go.Proofs.YtpebgggdpgppdaaDoor
set_option linter.unusedVariables false

/-- a beginning that more bytes may complete, as the reference's begins says it -/
def incomplete (l : List Nat) : Prop := l.length ≤ 3 ∧ l.length < (begins l).2
instance (l : List Nat) : Decidable (incomplete l) := inferInstanceAs (Decidable (_ ∧ _))
/-- the first byte's class: how many bytes are needed, and the second byte's least and greatest value -/
def need (c : Nat) : Nat := if c < 128 then 0 else if c < 194 then 1 else if c < 224 then 2 else if c < 240 then 3 else if c < 245 then 4 else 1
def accLo (c : Nat) : Nat := if c = 224 then 160 else if c = 240 then 144 else 128
def accHi (c : Nat) : Nat := if c = 237 then 159 else if c = 244 then 143 else 191
/-- is nothing missing: the library's FullRune, by the class -/
def full (n c b d : Nat) : Prop := need c ≤ n ∨ (1 < n ∧ (b < accLo c ∨ accHi c < b)) ∨ (2 < n ∧ (d < 128 ∨ 191 < d))
theorem acc_lo (c : Nat) : (c = 224 ∧ accLo c = 160) ∨ (c = 240 ∧ accLo c = 144) ∨ (c ≠ 224 ∧ c ≠ 240 ∧ accLo c = 128) := by
  unfold accLo; by_cases h : c = 224
  · simp [h]
  · by_cases g : c = 240
    · simp [g]
    · simp [h, g]
theorem acc_hi (c : Nat) : (c = 237 ∧ accHi c = 159) ∨ (c = 244 ∧ accHi c = 143) ∨ (c ≠ 237 ∧ c ≠ 244 ∧ accHi c = 191) := by
  unfold accHi; by_cases h : c = 237
  · simp [h]
  · by_cases g : c = 244
    · simp [g]
    · simp [h, g]
theorem need_eq (c : Nat) : (c < 128 ∧ need c = 0) ∨ (128 ≤ c ∧ c < 194 ∧ need c = 1) ∨ (194 ≤ c ∧ c < 224 ∧ need c = 2) ∨ (224 ≤ c ∧ c < 240 ∧ need c = 3) ∨ (240 ≤ c ∧ c < 245 ∧ need c = 4) ∨ (245 ≤ c ∧ need c = 1) := by
  unfold need
  by_cases h1 : c < 128
  · simp [h1]
  · by_cases h2 : c < 194
    · simp [h1, h2]; omega
    · by_cases h3 : c < 224
      · simp [h1, h2, h3]; omega
      · by_cases h4 : c < 240
        · simp [h1, h2, h3, h4]; omega
        · by_cases h5 : c < 245
          · simp [h1, h2, h3, h4, h5]; omega
          · simp [h1, h2, h3, h4, h5]; omega

theorem begins_two (c : Nat) (h : 192 ≤ c ∧ c < 224) : begins [c] = judge (lim c) (64 * (c - 192), 64 * (c - 192) + 63) := by
  rw [begins, if_neg (by simp; omega), lim2 c h, if_neg (by simp)]; rfl
theorem inc_len (l : List Nat) (c : Nat) (t : List Nat) (hl : l = c :: t) (h : 128 ≤ c ∨ t.length ≠ 0) (hle : (lim c).1 ≤ l.length) : ¬ incomplete l := by
  subst hl
  rintro ⟨_, h2⟩
  rcases begins_len c t h with e | e <;> omega
theorem inc_ascii (c : Nat) (t : List Nat) (h : c < 128) : ¬ incomplete (c :: t) := by
  rintro ⟨_, h2⟩
  by_cases e : t.length = 0
  · obtain rfl : t = [] := List.eq_nil_of_length_eq_zero e
    simp [begins, h] at h2
  · rcases begins_len c t (.inr e) with g | g
    · omega
    · rw [lim1 c (by omega)] at g; omega

theorem judge_iff (K v lo hi a b : Nat) : (judge (K, v, lo, hi) (a, b)).2 = if b < lo ∨ hi < a ∨ (55296 ≤ a ∧ b ≤ 57343) then 0 else K := by
  unfold judge; simp only; split <;> rfl
theorem beg_len (c : Nat) (t : List Nat) (K v lo hi : Nat) (hL : lim c = (K, v, lo, hi)) (hc : 128 ≤ c) (hK : t.length + 1 ≤ K) :
    (begins (c :: t)).2 = match conts v t with
      | none => 0
      | some u => (judge (K, v, lo, hi) (widen (K - (t.length + 1)) (u, u))).2 := by
  rw [begins, if_neg (by omega), hL, if_neg (by simp; omega)]
  simp only
  cases conts v t <;> rfl

theorem judge2 (K v lo hi a b : Nat) : (judge (K, v, lo, hi) (a, b)).2 = 0 ∧ (b < lo ∨ hi < a ∨ (55296 ≤ a ∧ b ≤ 57343)) ∨ (judge (K, v, lo, hi) (a, b)).2 = K ∧ ¬ (b < lo ∨ hi < a ∨ (55296 ≤ a ∧ b ≤ 57343)) := by
  rw [judge_iff]
  by_cases h : b < lo ∨ hi < a ∨ (55296 ≤ a ∧ b ≤ 57343)
  · left; rw [if_pos h]; exact ⟨rfl, h⟩
  · right; rw [if_neg h]; exact ⟨rfl, h⟩
theorem conts2 (v b : Nat) : (cont b ∧ conts v [b] = some (64 * v + b - 128)) ∨ (¬ cont b ∧ conts v [b] = none) := by
  rw [conts_len1]; by_cases h : cont b
  · left; exact ⟨h, if_pos h⟩
  · right; exact ⟨h, if_neg h⟩
theorem conts3 (v b d : Nat) : (cont b ∧ cont d ∧ conts v [b, d] = some (64 * (64 * v + b - 128) + d - 128)) ∨ ((¬ cont b ∨ ¬ cont d) ∧ conts v [b, d] = none) := by
  rw [conts_cons]; by_cases h : cont b
  · rw [if_pos h]
    rcases conts2 (64 * v + b - 128) d with ⟨g, e⟩ | ⟨g, e⟩
    · left; exact ⟨h, g, e⟩
    · right; exact ⟨.inr g, e⟩
  · right; exact ⟨.inl h, if_neg h⟩

theorem full_inc (l : List Nat) (hb : ∀ x ∈ l, x < 256) (hl : 1 ≤ l.length) : full l.length (l.getD 0 0) (l.getD 1 0) (l.getD 2 0) ↔ ¬ incomplete l := by
  cases l with
  | nil => simp at hl
  | cons c t =>
    have hc := hb c (by simp)
    have hN := need_eq c
    have hLo := acc_lo c
    have hHi := acc_hi c
    show full (t.length + 1) c (t.getD 0 0) (t.getD 1 0) ↔ ¬ (t.length + 1 ≤ 3 ∧ t.length + 1 < (begins (c :: t)).2)
    unfold full
    by_cases c1 : c < 128
    · have := inc_ascii c t c1
      unfold incomplete at this
      rw [List.length_cons] at this
      omega
    · by_cases c2 : c < 192 ∨ 248 ≤ c
      · have := inc_len _ c t rfl (.inl (by omega)) (by rw [lim1 c c2]; simp)
        unfold incomplete at this
        rw [List.length_cons] at this
        omega
      · by_cases c3 : c < 224
        · have L := lim2 c ⟨by omega, c3⟩
          by_cases hlen : 2 ≤ t.length + 1
          · have := inc_len _ c t rfl (.inl (by omega)) (by rw [L]; simp; omega)
            unfold incomplete at this
            rw [List.length_cons] at this
            omega
          · obtain rfl : t = [] := List.eq_nil_of_length_eq_zero (by omega)
            have e := beg_len c [] _ _ _ _ L (by omega) (by simp)
            simp only [conts, List.length_nil, Nat.zero_add, Nat.reduceSub, widen] at e
            have j := judge2 2 (c - 192) 128 2047 (64 * (c - 192)) (64 * (c - 192) + 63)
            rw [← e] at j
            simp only [List.length_nil] at *
            omega
        · by_cases c4 : c < 240
          · have L := lim3 c ⟨by omega, c4⟩
            by_cases hlen : 3 ≤ t.length + 1
            · have := inc_len _ c t rfl (.inl (by omega)) (by rw [L]; simp; omega)
              unfold incomplete at this
              rw [List.length_cons] at this
              omega
            · have e := beg_len c t _ _ _ _ L (by omega) (by omega)
              match t with
              | [] =>
                simp only [conts, List.length_nil, Nat.zero_add, Nat.reduceSub, widen] at e
                have j := judge2 3 (c - 224) 2048 65535 (64 * (64 * (c - 224))) (64 * (64 * (c - 224) + 63) + 63)
                rw [← e] at j
                simp only [List.length_nil] at *
                omega
              | [b] =>
                have hb1 : b < 256 := hb b (by simp)
                rcases conts2 (c - 224) b with ⟨g, h⟩ | ⟨g, h⟩
                · rw [h] at e
                  simp only [List.length_cons, List.length_nil, Nat.zero_add, Nat.reduceAdd, Nat.reduceSub, widen] at e
                  have j := judge2 3 (c - 224) 2048 65535 (64 * (64 * (c - 224) + b - 128)) (64 * (64 * (c - 224) + b - 128) + 63)
                  rw [← e] at j
                  unfold cont at g
                  simp only [List.length_cons, List.length_nil, List.getD_cons_zero] at *
                  omega
                · rw [h] at e
                  unfold cont at g
                  simp only [List.length_cons, List.length_nil, List.getD_cons_zero] at *
                  omega
              | _ :: _ :: _ => simp at hlen
          · have L := lim4 c ⟨by omega, by omega⟩
            by_cases hlen : 4 ≤ t.length + 1
            · have := inc_len _ c t rfl (.inl (by omega)) (by rw [L]; simp; omega)
              unfold incomplete at this
              rw [List.length_cons] at this
              omega
            · have e := beg_len c t _ _ _ _ L (by omega) (by omega)
              match t with
              | [] =>
                simp only [conts, List.length_nil, Nat.zero_add, Nat.reduceSub, widen] at e
                have j := judge2 4 (c - 240) 65536 1114111 (64 * (64 * (64 * (c - 240)))) (64 * (64 * (64 * (c - 240) + 63) + 63) + 63)
                rw [← e] at j
                simp only [List.length_nil] at *
                omega
              | [b] =>
                have hb1 : b < 256 := hb b (by simp)
                rcases conts2 (c - 240) b with ⟨g, h⟩ | ⟨g, h⟩
                · rw [h] at e
                  simp only [List.length_cons, List.length_nil, Nat.zero_add, Nat.reduceAdd, Nat.reduceSub, widen] at e
                  have j := judge2 4 (c - 240) 65536 1114111 (64 * (64 * (64 * (c - 240) + b - 128))) (64 * (64 * (64 * (c - 240) + b - 128) + 63) + 63)
                  rw [← e] at j
                  unfold cont at g
                  simp only [List.length_cons, List.length_nil, List.getD_cons_zero] at *
                  omega
                · rw [h] at e
                  unfold cont at g
                  simp only [List.length_cons, List.length_nil, List.getD_cons_zero] at *
                  omega
              | [b, d] =>
                have hb1 : b < 256 := hb b (by simp)
                have hd1 : d < 256 := hb d (by simp)
                rcases conts3 (c - 240) b d with ⟨g, g2, h⟩ | ⟨g, h⟩
                · rw [h] at e
                  simp only [List.length_cons, List.length_nil, Nat.zero_add, Nat.reduceAdd, Nat.reduceSub, widen] at e
                  have j := judge2 4 (c - 240) 65536 1114111 (64 * (64 * (64 * (c - 240) + b - 128) + d - 128)) (64 * (64 * (64 * (c - 240) + b - 128) + d - 128) + 63)
                  rw [← e] at j
                  unfold cont at g g2
                  simp only [List.length_cons, List.length_nil, List.getD_cons_zero, List.getD_cons_succ] at *
                  omega
                · rw [h] at e
                  unfold cont at g
                  simp only [List.length_cons, List.length_nil, List.getD_cons_zero, List.getD_cons_succ] at *
                  omega
              | _ :: _ :: _ :: _ => simp at hlen
end Go.Proofs.YtpebgggdpgppdaaDoor
