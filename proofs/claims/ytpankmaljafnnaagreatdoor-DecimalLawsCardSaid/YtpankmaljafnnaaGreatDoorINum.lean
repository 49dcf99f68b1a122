/-
  Helper (plain lists, no program): digits of numbers in a base, and canonical texts of integers.
-/
import Init
namespace Go.Proofs.YtpankmaljafnnaaGreatDoor
set_option linter.unusedVariables false

/-- the value of digits in a base, the least significant first -/
def vb (b : Nat) : List UInt8 → Nat
  | [] => 0
  | c :: l => c.toNat + b * vb b l
/-- all are digits of the base -/
def Dg (b : Nat) (l : List UInt8) : Prop := ∀ c ∈ l, c.toNat < b
def Ef (b : Nat) : Nat → Nat → List UInt8
  | 0, _ => []
  | k + 1, n => if n = 0 then [] else UInt8.ofNat (n % b) :: Ef b k (n / b)
/-- the digits of a number in a base, the least significant first, without zeros at the end -/
def E (b n : Nat) : List UInt8 := Ef b n n
def D (n : Nat) : List UInt8 := E 10 n

theorem Ef_more (b : Nat) (hb : 2 ≤ b) : ∀ k n, n ≤ k → ∀ j, n ≤ j → Ef b k n = Ef b j n := by
  intro k
  induction k with
  | zero => intro n hn j _; obtain rfl : n = 0 := by omega
            cases j <;> simp [Ef]
  | succ k ih =>
    intro n hn j hj
    cases j with
    | zero => obtain rfl : n = 0 := by omega
              simp [Ef]
    | succ j =>
      by_cases h0 : n = 0
      · simp [Ef, h0]
      · have hlt : n / b < n := Nat.div_lt_self (by omega) hb
        simp only [Ef, h0, if_false]
        rw [ih (n / b) (by omega) j (by omega)]
theorem E_zero (b : Nat) : E b 0 = [] := rfl
theorem E_pos (b n : Nat) (hb : 2 ≤ b) (h : n ≠ 0) : E b n = UInt8.ofNat (n % b) :: E b (n / b) := by
  unfold E
  obtain ⟨k, rfl⟩ : ∃ k, n = k + 1 := ⟨n - 1, by omega⟩
  have hlt : (k + 1) / b < k + 1 := Nat.div_lt_self (by omega) hb
  rw [show Ef b (k + 1) (k + 1) = UInt8.ofNat ((k + 1) % b) :: Ef b k ((k + 1) / b) by simp [Ef]]
  rw [Ef_more b hb k ((k + 1) / b) (by omega) ((k + 1) / b) (Nat.le_refl _)]
theorem ofNat_mod (n b : Nat) (hb : 2 ≤ b) (h2 : b ≤ 256) : (UInt8.ofNat (n % b)).toNat = n % b := by
  have : n % b < b := Nat.mod_lt _ (by omega)
  rw [UInt8.toNat_ofNat']; omega
theorem E_ind (b : Nat) (hb : 2 ≤ b) {P : Nat → Prop} (h0 : P 0) (hs : ∀ n, n ≠ 0 → P (n / b) → P n) : ∀ n, P n := by
  intro n
  induction n using Nat.strongRecOn with
  | ind n ih =>
    by_cases h : n = 0
    · rw [h]; exact h0
    · exact hs n h (ih _ (Nat.div_lt_self (by omega) hb))
theorem vb_E (b n : Nat) (hb : 2 ≤ b) (h2 : b ≤ 256) : vb b (E b n) = n := by
  refine E_ind b hb (P := fun n => vb b (E b n) = n) (by simp [E_zero, vb]) (fun n h ih => ?_) n
  rw [E_pos b n hb h, vb, ih, ofNat_mod n b hb h2]
  exact Nat.mod_add_div n b
theorem dg_E (b n : Nat) (hb : 2 ≤ b) (h2 : b ≤ 256) : Dg b (E b n) := by
  refine E_ind b hb (P := fun n => Dg b (E b n)) (by intro c hc; simp [E_zero] at hc) (fun n h ih => ?_) n
  rw [E_pos b n hb h]
  intro c hc
  rcases List.mem_cons.1 hc with rfl | hc
  · rw [ofNat_mod n b hb h2]; exact Nat.mod_lt _ (by omega)
  · exact ih c hc
theorem E_nil (b n : Nat) (hb : 2 ≤ b) : E b n = [] ↔ n = 0 := by
  constructor
  · intro h
    by_cases h0 : n = 0
    · exact h0
    · rw [E_pos b n hb h0] at h; cases h
  · rintro rfl; rfl
theorem vb_append (b : Nat) (p q : List UInt8) : vb b (p ++ q) = vb b p + b ^ p.length * vb b q := by
  induction p with
  | nil => simp [vb]
  | cons c p ih => rw [List.cons_append, vb, vb, ih, List.length_cons, Nat.pow_succ, Nat.mul_add, Nat.add_assoc, Nat.mul_comm (b ^ p.length) b, Nat.mul_assoc]
theorem vb_lt (b : Nat) (l : List UInt8) (h : Dg b l) : vb b l < b ^ l.length := by
  induction l with
  | nil => simp [vb]
  | cons c l ih =>
    have h1 := h c (by simp)
    have h2 := ih (fun x hx => h x (by simp [hx]))
    rw [vb, List.length_cons, Nat.pow_succ]
    have : b * vb b l + b ≤ b ^ l.length * b := by
      rw [← Nat.mul_succ, Nat.mul_comm]; exact Nat.mul_le_mul_right _ h2
    omega
theorem vb_zeros (b : Nat) (l : List UInt8) (h : ∀ c ∈ l, c = 0) : vb b l = 0 := by
  induction l with
  | nil => rfl
  | cons c l ih => rw [vb, ih (fun x hx => h x (by simp [hx])), h c (by simp)]; rfl
/-- a list of digits that is not longer than its value needs is the number's own -/
theorem canon (b : Nat) (hb : 2 ≤ b) (h2 : b ≤ 256) (l : List UInt8) (h : Dg b l) (hl : l = [] ∨ b ^ (l.length - 1) ≤ vb b l) : l = E b (vb b l) := by
  induction l with
  | nil => rfl
  | cons c l ih =>
    have hc := h c (by simp)
    have hpos : vb b (c :: l) ≠ 0 := by
      rcases hl with hl | hl
      · cases hl
      · have : 0 < b ^ ((c :: l).length - 1) := Nat.pow_pos (by omega)
        omega
    rw [E_pos b _ hb hpos]
    have hm : vb b (c :: l) % b = c.toNat := by rw [vb, Nat.add_mul_mod_self_left, Nat.mod_eq_of_lt hc]
    have hd : vb b (c :: l) / b = vb b l := by rw [vb, Nat.add_mul_div_left _ _ (by omega), Nat.div_eq_of_lt hc, Nat.zero_add]
    rw [hm, hd, UInt8.ofNat_toNat]
    congr 1
    refine ih (fun x hx => h x (by simp [hx])) ?_
    cases l with
    | nil => exact .inl rfl
    | cons d l =>
      right
      rcases hl with hl | hl
      · cases hl
      · simp only [List.length_cons, Nat.add_sub_cancel] at hl ⊢
        have hdiv : b ^ (l.length + 1) / b ≤ vb b (c :: d :: l) / b := Nat.div_le_div_right hl
        rw [Nat.pow_succ, Nat.mul_div_cancel _ (by omega), hd] at hdiv
        exact hdiv
theorem canon_last (b : Nat) (hb : 2 ≤ b) (h2 : b ≤ 256) (l : List UInt8) (h : Dg b l) (k : Nat) (hk : l.length = k + 1) (hl : l.getD k 0 ≠ 0) : b ^ (l.length - 1) ≤ vb b l := by
  have e : l = l.take k ++ [l.getD k 0] := by
    conv => lhs; rw [← List.take_append_drop k l]
    congr 1
    rw [List.drop_eq_getElem_cons (by omega), List.drop_eq_nil_of_le (by omega), List.getD_eq_getElem?_getD, List.getElem?_eq_getElem (by omega)]; rfl
  rw [hk, e, vb_append]
  have : (l.getD k 0).toNat ≠ 0 := fun g => hl (UInt8.toNat_inj.1 g)
  have h1 : (l.take k).length = k := by rw [List.length_take]; omega
  rw [h1]
  simp only [vb, Nat.mul_zero, Nat.add_zero]
  have : b ^ k * 1 ≤ b ^ k * (l.getD k 0).toNat := Nat.mul_le_mul_left _ (by omega)
  have e5 : k + 1 - 1 = k := rfl
  rw [e5]
  omega
/-- what is left when the zeros at the end are taken away -/
theorem trim_at (b : Nat) (hb : 2 ≤ b) (h2 : b ≤ 256) (l : List UInt8) (h : Dg b l) (k : Nat) (hk : k ≤ l.length) (hz : ∀ j, k ≤ j → j < l.length → l.getD j 0 = 0) (hl : k = 0 ∨ l.getD (k - 1) 0 ≠ 0) : l.take k = E b (vb b l) := by
  have hv : vb b l = vb b (l.take k) := by
    conv => lhs; rw [← List.take_append_drop k l]
    rw [vb_append, vb_zeros b (l.drop k), Nat.mul_zero, Nat.add_zero]
    intro c hc
    obtain ⟨i, hi, rfl⟩ := List.mem_iff_getElem.1 hc
    rw [List.length_drop] at hi
    have := hz (k + i) (by omega) (by omega)
    rw [List.getD_eq_getElem?_getD, List.getElem?_eq_getElem (by omega)] at this
    rw [List.getElem_drop]; exact this
  rw [hv]
  have hlen : (l.take k).length = k := by rw [List.length_take]; omega
  have hD : Dg b (l.take k) := fun c hc => h c (List.mem_of_mem_take hc)
  refine canon b hb h2 _ hD ?_
  rcases Nat.eq_zero_or_pos k with rfl | hpos
  · left; simp
  · right
    refine canon_last b hb h2 _ hD (k - 1) (by omega) ?_
    rcases hl with rfl | hl
    · omega
    · rw [List.getD_eq_getElem?_getD, List.getElem?_take_of_lt (by omega), ← List.getD_eq_getElem?_getD]; exact hl
theorem E_len_le (b n k : Nat) (hb : 2 ≤ b) : (E b n).length ≤ k ↔ n < b ^ k := by
  induction k generalizing n with
  | zero =>
    rw [Nat.pow_zero, Nat.le_zero, List.length_eq_zero_iff, E_nil b n hb]; omega
  | succ k ih =>
    by_cases h : n = 0
    · subst h; simp [E_zero, Nat.pow_pos (show 0 < b by omega)]
    · rw [E_pos b n hb h, List.length_cons, Nat.add_le_add_iff_right, ih, Nat.pow_succ, Nat.div_lt_iff_lt_mul (by omega)]
theorem E_len_gt (b n k : Nat) (hb : 2 ≤ b) : k < (E b n).length ↔ b ^ k ≤ n := by
  have := E_len_le b n k hb; omega
theorem E_last (b n k : Nat) (hb : 2 ≤ b) (h2 : b ≤ 256) (h : (E b n).length = k + 1) : (E b n).getD k 0 ≠ 0 := by
  intro h0
  have hle := (E_len_gt b n k hb).1 (by omega)
  have e : E b n = (E b n).take k ++ [(E b n).getD k 0] := by
    conv => lhs; rw [← List.take_append_drop k (E b n)]
    congr 1
    rw [List.drop_eq_getElem_cons (by omega), List.drop_eq_nil_of_le (by omega), List.getD_eq_getElem?_getD, List.getElem?_eq_getElem (by omega)]; rfl
  have hv := vb_E b n hb h2
  rw [e, vb_append, h0] at hv
  have hlt := vb_lt b ((E b n).take k) (fun c hc => dg_E b n hb h2 c (List.mem_of_mem_take hc))
  have hl : ((E b n).take k).length = k := by rw [List.length_take]; omega
  rw [hl] at hlt hv
  simp only [vb, Nat.mul_zero, Nat.add_zero] at hv
  have : (0 : UInt8).toNat = 0 := rfl
  rw [this, Nat.mul_zero] at hv
  omega
theorem vb_take (b : Nat) (l : List UInt8) (k : Nat) : vb b (l.take (k + 1)) = vb b (l.take k) + b ^ k * (l.getD k 0).toNat := by
  by_cases h : k < l.length
  · rw [List.take_add_one, vb_append, List.getElem?_eq_getElem h, List.getD_eq_getElem?_getD, List.getElem?_eq_getElem h, List.length_take, Nat.min_eq_left (by omega)]
    simp [vb]
  · rw [List.take_of_length_le (by omega), List.take_of_length_le (by omega), List.getD_eq_getElem?_getD, List.getElem?_eq_none (by omega)]
    simp
theorem vb_set (b : Nat) (l : List UInt8) (k : Nat) (c : UInt8) (h : k < l.length) : vb b (l.set k c) + b ^ k * (l.getD k 0).toNat = vb b l + b ^ k * c.toNat := by
  induction l generalizing k with
  | nil => simp at h
  | cons d l ih =>
    cases k with
    | zero => simp [vb]; omega
    | succ k =>
      have := ih k (by simpa using h)
      rw [List.set_cons_succ, vb, vb, List.getD_cons_succ, Nat.pow_succ, Nat.mul_comm (b ^ k) b, Nat.mul_assoc, Nat.mul_assoc]
      have e : b * (vb b (l.set k c) + b ^ k * (l.getD k 0).toNat) = b * (vb b l + b ^ k * c.toNat) := by rw [this]
      rw [Nat.mul_add, Nat.mul_add] at e
      omega
theorem vb_drop (b : Nat) (l : List UInt8) (k : Nat) (h : k < l.length) : vb b (l.drop k) = (l.getD k 0).toNat + b * vb b (l.drop (k + 1)) := by
  rw [List.drop_eq_getElem_cons h, vb, List.getD_eq_getElem?_getD, List.getElem?_eq_getElem h]; rfl
theorem vb_split (b : Nat) (l : List UInt8) (k : Nat) (h : k ≤ l.length) : vb b l = vb b (l.take k) + b ^ k * vb b (l.drop k) := by
  conv => lhs; rw [← List.take_append_drop k l]
  rw [vb_append, List.length_take, Nat.min_eq_left h]
theorem dg_getD (b : Nat) (hb : 0 < b) (l : List UInt8) (h : Dg b l) (k : Nat) : (l.getD k 0).toNat < b := by
  by_cases hk : k < l.length
  · rw [List.getD_eq_getElem?_getD, List.getElem?_eq_getElem hk]; exact h _ (List.getElem_mem hk)
  · rw [List.getD_eq_getElem?_getD, List.getElem?_eq_none (by omega)]; exact hb
theorem dg_take (b : Nat) (l : List UInt8) (h : Dg b l) (k : Nat) : Dg b (l.take k) := fun c hc => h c (List.mem_of_mem_take hc)
theorem dg_drop (b : Nat) (l : List UInt8) (h : Dg b l) (k : Nat) : Dg b (l.drop k) := fun c hc => h c (List.mem_of_mem_drop hc)
theorem dg_snoc (b : Nat) (l : List UInt8) (h : Dg b l) (c : UInt8) (hc : c.toNat < b) : Dg b (l ++ [c]) := by
  intro x hx
  rcases List.mem_append.1 hx with hx | hx
  · exact h x hx
  · simp at hx; subst hx; exact hc
theorem vb_snoc (b : Nat) (l : List UInt8) (c : UInt8) : vb b (l ++ [c]) = vb b l + b ^ l.length * c.toNat := by
  rw [vb_append]; simp [vb]
/-- the higher place decides -/
theorem less_at (b : Nat) (p q : List UInt8) (hp : Dg b p) (k : Nat) (hkp : k < p.length) (hkq : k < q.length) (hd : p.drop (k + 1) = q.drop (k + 1)) (hlt : (p.getD k 0).toNat < (q.getD k 0).toNat) : vb b p < vb b q := by
  rw [vb_split b p k (by omega), vb_split b q k (by omega), vb_drop b p k hkp, vb_drop b q k hkq, hd]
  have h1 := vb_lt b (p.take k) (dg_take b p hp k)
  rw [List.length_take, Nat.min_eq_left (by omega)] at h1
  generalize (p.getD k 0).toNat = x at *
  generalize (q.getD k 0).toNat = y at *
  have : b ^ k * (x + 1) ≤ b ^ k * y := Nat.mul_le_mul_left _ hlt
  rw [Nat.mul_add, Nat.mul_one] at this
  rw [Nat.mul_add, Nat.mul_add]
  omega
theorem E_less_len (b m n : Nat) (hb : 2 ≤ b) (h : (E b m).length < (E b n).length) : m < n := by
  have h1 := (E_len_le b m (E b m).length hb).1 (Nat.le_refl _)
  have h2 := (E_len_gt b n (E b m).length hb).1 h
  omega
theorem length_take_set (R : List UInt8) (i : Nat) (c : UInt8) (h : i < R.length) : (R.set i c).take (i + 1) = R.take i ++ [c] := by
  rw [List.take_succ_eq_append_getElem (by rw [List.length_set]; exact h), List.getElem_set_self, List.take_set_of_le (Nat.le_refl _)]
theorem dg_set (b : Nat) (R : List UInt8) (h : Dg b R) (i : Nat) (c : UInt8) (hc : c.toNat < b) : Dg b (R.set i c) := by
  intro x hx
  rcases List.mem_or_eq_of_mem_set hx with hx | rfl
  · exact h x hx
  · exact hc
theorem dg_zeros (b n : Nat) (hb : 0 < b) : Dg b (List.replicate n 0) := by
  intro x hx; rw [List.eq_of_mem_replicate hx]; exact hb
theorem vb_take_set (b : Nat) (R : List UInt8) (i : Nat) (c : UInt8) (h : i < R.length) : vb b ((R.set i c).take (i + 1)) = vb b (R.take i) + b ^ i * c.toNat := by
  rw [length_take_set R i c h, vb_snoc, List.length_take, Nat.min_eq_left (by omega)]
theorem toNat_ofNat (n : Nat) (h : n < 256) : (UInt8.ofNat n).toNat = n := by rw [UInt8.toNat_ofNat']; omega

/-- a column of a sum -/
theorem plus_step (R p q : List UInt8) (i c : Nat) (hi : i < R.length) (h : vb 10 (R.take i) + 10 ^ i * c = vb 10 (p.take i) + vb 10 (q.take i)) (x : Nat) (hx : x = (p.getD i 0).toNat + (q.getD i 0).toNat + c) :
    vb 10 ((R.set i (UInt8.ofNat (x % 10))).take (i + 1)) + 10 ^ (i + 1) * (x / 10) = vb 10 (p.take (i + 1)) + vb 10 (q.take (i + 1)) := by
  rw [vb_take_set _ _ _ _ hi, vb_take, vb_take, toNat_ofNat _ (by omega), Nat.pow_succ, Nat.mul_assoc]
  have e : 10 ^ i * (x % 10) + 10 ^ i * (10 * (x / 10)) = 10 ^ i * x := by rw [← Nat.mul_add]; congr 1; omega
  have e2 : 10 ^ i * x = 10 ^ i * (p.getD i 0).toNat + 10 ^ i * (q.getD i 0).toNat + 10 ^ i * c := by rw [hx, Nat.mul_add, Nat.mul_add]
  omega
theorem plus_end (R p q : List UInt8) (n c : Nat) (hp : Dg 10 p) (hq : Dg 10 q) (hR : R.length = n + 1) (h1 : p.length ≤ n) (h2 : q.length ≤ n) (h : vb 10 (R.take (n + 1)) + 10 ^ (n + 1) * c = vb 10 (p.take (n + 1)) + vb 10 (q.take (n + 1))) :
    vb 10 R = vb 10 p + vb 10 q := by
  rw [List.take_of_length_le (by omega), List.take_of_length_le (by omega), List.take_of_length_le (by omega)] at h
  have a := vb_lt 10 p hp
  have b := vb_lt 10 q hq
  have a2 : 10 ^ p.length ≤ 10 ^ n := Nat.pow_le_pow_right (by omega) h1
  have b2 : 10 ^ q.length ≤ 10 ^ n := Nat.pow_le_pow_right (by omega) h2
  rw [Nat.pow_succ] at h
  have hc : c = 0 := by
    by_cases hc : c = 0
    · exact hc
    · have : 10 ^ n * 10 * 1 ≤ 10 ^ n * 10 * c := Nat.mul_le_mul_left _ (by omega)
      omega
  rw [hc] at h
  omega
/-- a column of a difference -/
theorem minus_step (R p q : List UInt8) (i b : Nat) (hi : i < R.length) (h : vb 10 (R.take i) + vb 10 (q.take i) = vb 10 (p.take i) + 10 ^ i * b) (d b' : Nat) (hd : d < 10) (hx : (q.getD i 0).toNat + b + d = (p.getD i 0).toNat + 10 * b') :
    vb 10 ((R.set i (UInt8.ofNat d)).take (i + 1)) + vb 10 (q.take (i + 1)) = vb 10 (p.take (i + 1)) + 10 ^ (i + 1) * b' := by
  rw [vb_take_set _ _ _ _ hi, vb_take, vb_take, toNat_ofNat _ (by omega), Nat.pow_succ, Nat.mul_assoc]
  have e : 10 ^ i * ((q.getD i 0).toNat + b + d) = 10 ^ i * ((p.getD i 0).toNat + 10 * b') := by rw [hx]
  rw [Nat.mul_add, Nat.mul_add, Nat.mul_add] at e
  omega
theorem minus_end (R p q : List UInt8) (b : Nat) (hd : Dg 10 R) (hR : R.length = p.length) (hl : q.length ≤ p.length) (hle : vb 10 q ≤ vb 10 p) (h : vb 10 (R.take p.length) + vb 10 (q.take p.length) = vb 10 (p.take p.length) + 10 ^ p.length * b) :
    vb 10 R = vb 10 p - vb 10 q := by
  rw [List.take_of_length_le (by omega), List.take_of_length_le (by omega), List.take_of_length_le (by omega)] at h
  have a := vb_lt 10 R hd
  rw [hR] at a
  have hb : b = 0 := by
    by_cases hb : b = 0
    · exact hb
    · have : 10 ^ p.length * 1 ≤ 10 ^ p.length * b := Nat.mul_le_mul_left _ (by omega)
      omega
  rw [hb] at h
  omega
theorem drop_step (p q : List UInt8) (k : Nat) (hp : k < p.length) (hq : k < q.length) (h : p.drop (k + 1) = q.drop (k + 1)) (he : p.getD k 0 = q.getD k 0) : p.drop k = q.drop k := by
  rw [List.drop_eq_getElem_cons hp, List.drop_eq_getElem_cons hq, h]
  rw [List.getD_eq_getElem?_getD, List.getD_eq_getElem?_getD, List.getElem?_eq_getElem hp, List.getElem?_eq_getElem hq] at he
  simp at he; rw [he]

/-- the digits of a product's row: the inner round -/
theorem times_inner (R m : List UInt8) (V a x i j c : Nat) (hk : i + j < R.length) (h : vb 10 R + 10 ^ (i + j) * c = V + 10 ^ i * a * vb 10 (m.take j)) (hx : x = (R.getD (i + j) 0).toNat + a * (m.getD j 0).toNat + c) :
    vb 10 (R.set (i + j) (UInt8.ofNat (x % 10))) + 10 ^ (i + (j + 1)) * (x / 10) = V + 10 ^ i * a * vb 10 (m.take (j + 1)) := by
  have hs := vb_set 10 R (i + j) (UInt8.ofNat (x % 10)) hk
  rw [toNat_ofNat _ (by omega)] at hs
  rw [vb_take, ← Nat.add_assoc i j 1, Nat.pow_succ, Nat.mul_assoc (10 ^ (i + j))]
  have e : 10 ^ (i + j) * (x % 10) + 10 ^ (i + j) * (10 * (x / 10)) = 10 ^ (i + j) * x := by rw [← Nat.mul_add]; congr 1; omega
  have e2 : 10 ^ (i + j) * x = 10 ^ (i + j) * (R.getD (i + j) 0).toNat + 10 ^ i * a * (10 ^ j * (m.getD j 0).toNat) + 10 ^ (i + j) * c := by
    rw [hx, Nat.mul_add, Nat.mul_add, Nat.pow_add]
    congr 2
    rw [Nat.mul_assoc, Nat.mul_assoc, Nat.mul_left_comm (10 ^ j)]
  rw [Nat.mul_add (10 ^ i * a)]
  omega
/-- the carry goes into an empty place -/
theorem times_outer (R m : List UInt8) (n : List UInt8) (i c : Nat) (hk : i + m.length < R.length) (hc : c < 10) (h0 : R.getD (i + m.length) 0 = 0) (h : vb 10 R + 10 ^ (i + m.length) * c = vb 10 (n.take i) * vb 10 m + 10 ^ i * (n.getD i 0).toNat * vb 10 (m.take m.length)) :
    vb 10 (R.set (i + m.length) (UInt8.ofNat c)) = vb 10 (n.take (i + 1)) * vb 10 m := by
  have hs := vb_set 10 R (i + m.length) (UInt8.ofNat c) hk
  rw [toNat_ofNat _ (by omega), h0] at hs
  rw [List.take_length] at h
  rw [vb_take, Nat.add_mul]
  have : (0 : UInt8).toNat = 0 := rfl
  rw [this] at hs
  omega
/-- a round of 'scaled': one digit more, with the carry -/
theorem scaled_step (s n : List UInt8) (i f c a x : Nat) (hs : s.length = i) (h : vb 10 s + 10 ^ i * c = f * vb 10 (n.take i) + a) (hx : x = (n.getD i 0).toNat * f + c) :
    vb 10 (s ++ [UInt8.ofNat (x % 10)]) + 10 ^ (i + 1) * (x / 10) = f * vb 10 (n.take (i + 1)) + a := by
  rw [vb_snoc, vb_take, toNat_ofNat _ (by omega), hs, Nat.pow_succ, Nat.mul_assoc]
  have e : 10 ^ i * (x % 10) + 10 ^ i * (10 * (x / 10)) = 10 ^ i * x := by rw [← Nat.mul_add]; congr 1; omega
  have e2 : 10 ^ i * x = f * (10 ^ i * (n.getD i 0).toNat) + 10 ^ i * c := by rw [hx, Nat.mul_add]; congr 1; rw [Nat.mul_comm (n.getD i 0).toNat f, Nat.mul_left_comm]
  rw [Nat.mul_add f]
  omega
/-- a round of the carry's digits -/
theorem carry_step (s : List UInt8) (V c : Nat) (h : vb 10 s + 10 ^ s.length * c = V) : vb 10 (s ++ [UInt8.ofNat (c % 10)]) + 10 ^ (s.length + 1) * (c / 10) = V := by
  rw [vb_snoc, toNat_ofNat _ (by omega), Nat.pow_succ, Nat.mul_assoc]
  have e : 10 ^ s.length * (c % 10) + 10 ^ s.length * (10 * (c / 10)) = 10 ^ s.length * c := by rw [← Nat.mul_add]; congr 1; omega
  omega
theorem carry_big (s : List UInt8) (V c : Nat) (hc : 0 < c) (h : vb 10 s + 10 ^ s.length * c = V) : 10 ^ s.length ≤ V := by
  have : 10 ^ s.length * 1 ≤ 10 ^ s.length * c := Nat.mul_le_mul_left _ hc
  omega
theorem scaled_big (n f a : Nat) (hf : 0 < f) : E 10 n = [] ∨ 10 ^ ((E 10 n).length - 1) ≤ f * n + a := by
  by_cases h : n = 0
  · left; rw [h]; rfl
  · right
    have hne : (E 10 n).length ≠ 0 := fun g => h ((E_nil 10 n (by omega)).1 (List.length_eq_zero_iff.1 g))
    have h1 := (E_len_gt 10 n ((E 10 n).length - 1) (by omega)).1 (by omega)
    have : 1 * n ≤ f * n := Nat.mul_le_mul_right _ hf
    omega
theorem scaled_end (s : List UInt8) (V : Nat) (hd : Dg 10 s) (hl : s = [] ∨ 10 ^ (s.length - 1) ≤ V) (h : vb 10 s + 10 ^ s.length * 0 = V) : s = E 10 V := by
  have hv : vb 10 s = V := by omega
  rw [← hv]
  exact canon 10 (by omega) (by omega) s hd (by rw [hv]; exact hl)

/-- a round of 'parted': from the top downwards -/
theorem parted_step (n q : List UInt8) (k d x : Nat) (hd : 0 < d) (hd2 : d ≤ 256) (hk : k < n.length) (hq : q.length = n.length) (hg : Dg 10 n) (h : vb 10 (q.drop (k + 1)) = vb 10 (n.drop (k + 1)) / d) (hx : x = vb 10 (n.drop (k + 1)) % d * 10 + (n.getD k 0).toNat) :
    x / d < 10 ∧ x % d = vb 10 (n.drop k) % d ∧ vb 10 ((q.set k (UInt8.ofNat (x / d))).drop k) = vb 10 (n.drop k) / d := by
  have hr : vb 10 (n.drop (k + 1)) % d < d := Nat.mod_lt _ hd
  have hn := dg_getD 10 (by omega) n hg k
  have hxd : x / d < 10 := by rw [Nat.div_lt_iff_lt_mul hd]; omega
  have hdm := Nat.div_add_mod (vb 10 (n.drop (k + 1))) d
  have e : vb 10 (n.drop k) = d * (10 * (vb 10 (n.drop (k + 1)) / d)) + x := by
    rw [vb_drop 10 n k hk]
    have : 10 * vb 10 (n.drop (k + 1)) = 10 * (d * (vb 10 (n.drop (k + 1)) / d)) + 10 * (vb 10 (n.drop (k + 1)) % d) := by rw [← Nat.mul_add, hdm]
    rw [Nat.mul_left_comm d 10]
    omega
  refine ⟨hxd, ?_, ?_⟩
  · rw [e, Nat.mul_add_mod]
  · rw [vb_drop 10 _ k (by rw [List.length_set]; omega), List.drop_set_of_lt (by omega), h, e, Nat.mul_add_div hd]
    rw [List.getD_eq_getElem?_getD, List.getElem?_set_self (by omega)]
    show (UInt8.ofNat (x / d)).toNat + _ = _
    rw [toNat_ofNat _ (by omega)]
    omega
/-- the digits in a base, one round -/
theorem E_snoc (b n : Nat) (hb : 2 ≤ b) (s : List UInt8) (h : n ≠ 0) : s ++ E b n = (s ++ [UInt8.ofNat (n % b)]) ++ E b (n / b) := by
  rw [E_pos b n hb h]; simp
theorem E_len_le_self (b n : Nat) (hb : 2 ≤ b) : (E b n).length ≤ n := by
  refine E_ind b hb (P := fun n => (E b n).length ≤ n) (by simp [E_zero]) (fun n h ih => ?_) n
  rw [E_pos b n hb h, List.length_cons]
  have : n / b < n := Nat.div_lt_self (by omega) hb
  omega
theorem E_len_mono (b m n : Nat) (hb : 2 ≤ b) (h : m ≤ n) : (E b m).length ≤ (E b n).length := by
  have := (E_len_le b n (E b n).length hb).1 (Nat.le_refl _)
  exact (E_len_le b m _ hb).2 (by omega)

/-- digits from the top: 10 n + d -/
theorem cons_E (n : Nat) (d : UInt8) (hd : d.toNat < 10) : vb 10 (d :: E 10 n) = 10 * n + d.toNat ∧ Dg 10 (d :: E 10 n) := by
  refine ⟨by rw [vb, vb_E 10 n (by omega) (by omega)]; omega, ?_⟩
  intro c hc
  rcases List.mem_cons.1 hc with rfl | hc
  · exact hd
  · exact dg_E 10 n (by omega) (by omega) c hc
/-- a place of a quotient -/
theorem divided_next (n : List UInt8) (k m : Nat) (hm : 0 < m) (hg : Dg 10 n) (hk : k < n.length) : 10 * (vb 10 (n.drop (k + 1)) % m) + (n.getD k 0).toNat < 10 * m ∧ (10 * (vb 10 (n.drop (k + 1)) % m) + (n.getD k 0).toNat) % m = vb 10 (n.drop k) % m ∧
    ∀ q : List UInt8, q.length = n.length → vb 10 (q.drop (k + 1)) = vb 10 (n.drop (k + 1)) / m → vb 10 ((q.set k (UInt8.ofNat ((10 * (vb 10 (n.drop (k + 1)) % m) + (n.getD k 0).toNat) / m))).drop k) = vb 10 (n.drop k) / m := by
  have hr : vb 10 (n.drop (k + 1)) % m < m := Nat.mod_lt _ hm
  have hn := dg_getD 10 (by omega) n hg k
  have hx : 10 * (vb 10 (n.drop (k + 1)) % m) + (n.getD k 0).toNat < 10 * m := by omega
  have hdm := Nat.div_add_mod (vb 10 (n.drop (k + 1))) m
  generalize hX : 10 * (vb 10 (n.drop (k + 1)) % m) + (n.getD k 0).toNat = x at *
  have hxd : x / m < 10 := by rw [Nat.div_lt_iff_lt_mul hm]; omega
  have e : vb 10 (n.drop k) = m * (10 * (vb 10 (n.drop (k + 1)) / m)) + x := by
    rw [vb_drop 10 n k hk]
    have : 10 * vb 10 (n.drop (k + 1)) = 10 * (m * (vb 10 (n.drop (k + 1)) / m)) + 10 * (vb 10 (n.drop (k + 1)) % m) := by rw [← Nat.mul_add, hdm]
    rw [Nat.mul_left_comm m 10]
    omega
  refine ⟨hx, by rw [e, Nat.mul_add_mod], fun q hq h => ?_⟩
  rw [vb_drop 10 _ k (by rw [List.length_set]; omega), List.drop_set_of_lt (by omega), h, e, Nat.mul_add_div hm]
  rw [List.getD_eq_getElem?_getD, List.getElem?_set_self (by omega)]
  show (UInt8.ofNat (x / m)).toNat + _ = _
  rw [toNat_ofNat _ (by omega)]
  omega
/-- the character of a digit -/
def fig (d : UInt8) : UInt8 := if d.toNat < 10 then d + 48 else d + 87
/-- a number's digits as characters, the most significant first -/
def body (b n : Nat) : List UInt8 := if n = 0 then [48] else (E b n).reverse.map fig
/-- an integer's text in a base -/
def Tb (b : Nat) (z : Int) : List UInt8 := (if z < 0 then [45] else []) ++ body b z.natAbs
def T (z : Int) : List UInt8 := Tb 10 z
/-- a character's digit -/
def dig (c : UInt8) : UInt8 := c - 48
theorem fig_lt (d : UInt8) (h : d.toNat < 10) : (fig d).toNat = d.toNat + 48 := by
  unfold fig; rw [if_pos h, UInt8.toNat_add]; show (d.toNat + 48) % 256 = _; omega
theorem dig_fig (d : UInt8) (h : d.toNat < 10) : dig (fig d) = d := by
  unfold fig dig; rw [if_pos h]; exact UInt8.add_sub_cancel ..
theorem fig_dig (c : UInt8) (h : 48 ≤ c.toNat) (h2 : c.toNat ≤ 57) : fig (dig c) = c ∧ (dig c).toNat = c.toNat - 48 := by
  have e : (dig c).toNat = c.toNat - 48 := by
    unfold dig; rw [UInt8.toNat_sub_of_le c 48 (by rw [UInt8.le_iff_toNat_le]; exact h)]; rfl
  refine ⟨?_, e⟩
  unfold fig; rw [if_pos (by omega)]; exact UInt8.sub_add_cancel ..
theorem body_ne (b n : Nat) (hb : 2 ≤ b) : body b n ≠ [] := by
  unfold body; split
  · simp
  · rename_i h; intro g; exact h ((E_nil b n hb).1 (by simpa using g))
theorem body_len (n k : Nat) (h : (E 10 n).length ≤ k) (hk : 0 < k) : (body 10 n).length ≤ k := by
  unfold body; split
  · show 1 ≤ k; omega
  · rw [List.length_map, List.length_reverse]; exact h
theorem body_dig (n : Nat) : ∀ c ∈ body 10 n, 48 ≤ c.toNat ∧ c.toNat ≤ 57 := by
  unfold body; split
  · intro c hc; simp at hc; subst hc; decide
  · intro c hc
    obtain ⟨d, hd, rfl⟩ := List.mem_map.1 hc
    have := dg_E 10 n (by omega) (by omega) d (List.mem_reverse.1 hd)
    rw [fig_lt d this]; omega
/-- what reading a body makes -/
theorem body_back (n : Nat) : vb 10 ((body 10 n).map dig).reverse = n ∧ Dg 10 ((body 10 n).map dig).reverse := by
  unfold body; split
  · rename_i h; subst h; exact ⟨rfl, by intro c hc; simp [dig] at hc; subst hc; decide⟩
  · have e : (((E 10 n).reverse.map fig).map dig).reverse = E 10 n := by
      rw [List.map_map, List.map_reverse, List.reverse_reverse]
      refine List.ext_getElem (by simp) fun i h1 h2 => ?_
      rw [List.getElem_map]
      exact dig_fig _ (dg_E 10 n (by omega) (by omega) _ (List.getElem_mem h2))
    rw [e]
    exact ⟨vb_E 10 n (by omega) (by omega), dg_E 10 n (by omega) (by omega)⟩
theorem body_head (n : Nat) (h : (body 10 n).head? = some 48) : n = 0 := by
  unfold body at h
  split at h
  · assumption
  · rename_i h0
    exfalso
    have hne : (E 10 n).length ≠ 0 := fun g => h0 ((E_nil 10 n (by omega)).1 (List.length_eq_zero_iff.1 g))
    obtain ⟨k, hk⟩ : ∃ k, (E 10 n).length = k + 1 := ⟨(E 10 n).length - 1, by omega⟩
    have hl := E_last 10 n k (by omega) (by omega) hk
    have hg := dg_getD 10 (by omega) (E 10 n) (dg_E 10 n (by omega) (by omega)) k
    rw [List.head?_map, List.head?_reverse, List.getLast?_eq_getElem?, hk, Nat.add_sub_cancel, List.getElem?_eq_getElem (by omega)] at h
    rw [List.getD_eq_getElem?_getD, List.getElem?_eq_getElem (by omega)] at hl hg
    have e := Option.some.inj h
    change (E 10 n)[k] ≠ 0 at hl
    change (E 10 n)[k].toNat < 10 at hg
    have := fig_lt _ hg
    rw [e] at this
    apply hl
    apply UInt8.toNat_inj.1
    have : (48 : UInt8).toNat = 48 := rfl
    have : (0 : UInt8).toNat = 0 := rfl
    omega
theorem body_len0 (n : Nat) : (body 10 n).length = if n = 0 then 1 else (E 10 n).length := by
  unfold body; split <;> simp
theorem body_no_minus (n : Nat) : (body 10 n).head? ≠ some 45 := by
  intro h
  have := body_dig n 45 (List.mem_of_mem_head? (by rw [h]; rfl))
  simp at this
/-- reading back -/
def rd (s : List UInt8) : Int := if s.head? = some 45 then -(vb 10 (s.tail.map dig).reverse : Int) else (vb 10 (s.map dig).reverse : Int)
theorem rd_T (z : Int) : rd (T z) = z := by
  unfold T Tb rd
  by_cases h : z < 0
  · rw [if_pos h]
    rw [List.singleton_append, List.head?_cons, if_pos rfl]
    show -(vb 10 ((body 10 z.natAbs).map dig).reverse : Int) = z
    rw [(body_back _).1]; omega
  · rw [if_neg h, List.nil_append, if_neg (body_no_minus _), (body_back _).1]; omega
theorem T_inj {x y : Int} (h : T x = T y) : x = y := by rw [← rd_T x, ← rd_T y, h]
theorem T_ne (z : Int) : T z ≠ [] := by unfold T Tb; simp [body_ne 10 _ (show 2 ≤ 10 by omega)]

/-- what stands behind a minus sign -/
def strip (s : List UInt8) : List UInt8 := if s.head? = some 45 then s.tail else s
/-- canonical texts -/
def Vld (s : List UInt8) : Prop := strip s ≠ [] ∧ (strip s).length ≤ 400 ∧ (∀ c ∈ strip s, 48 ≤ c.toNat ∧ c.toNat ≤ 57) ∧ ((strip s).head? ≠ some 48 ∨ s = [48])
theorem strip_T (z : Int) : strip (T z) = body 10 z.natAbs := by
  unfold T Tb strip
  by_cases h : z < 0
  · rw [if_pos h]; rfl
  · rw [if_neg h, List.nil_append, if_neg (body_no_minus _)]
/-- an integer of at most 400 digits -/
def Sh (z : Int) : Prop := (E 10 z.natAbs).length ≤ 400
theorem vld_T (z : Int) (h : Sh z) : Vld (T z) := by
  unfold Vld
  rw [strip_T]
  refine ⟨body_ne 10 _ (by omega), body_len _ _ h (by omega), body_dig _, ?_⟩
  by_cases h0 : z = 0
  · right; rw [h0]; rfl
  · left; intro g; have := body_head _ g; omega
theorem vld_iff (s : List UInt8) (h : Vld s) : ∃ z : Int, Sh z ∧ s = T z := by
  obtain ⟨h1, h2, h3, h4⟩ := h
  rcases h4 with h4 | rfl
  · have hD : Dg 10 ((strip s).map dig).reverse := by
      intro c hc
      obtain ⟨d, hd, rfl⟩ := List.mem_map.1 (List.mem_reverse.1 hc)
      have := h3 d hd
      rw [(fig_dig d this.1 this.2).2]; omega
    have hlen : ((strip s).map dig).reverse.length = (strip s).length := by simp
    have hne : (strip s).length ≠ 0 := fun g => h1 (List.length_eq_zero_iff.1 g)
    have hbig : 10 ^ (((strip s).map dig).reverse.length - 1) ≤ vb 10 ((strip s).map dig).reverse := by
      refine canon_last 10 (by omega) (by omega) _ hD ((strip s).length - 1) (by omega) ?_
      intro h0
      apply h4
      rw [List.getD_eq_getElem?_getD, List.getElem?_eq_getElem (by omega), List.getElem_reverse] at h0
      simp only [List.length_map, List.getElem_map, Option.getD_some] at h0
      have e : (strip s).length - 1 - ((strip s).length - 1) = 0 := by omega
      simp only [e] at h0
      rw [List.head?_eq_getElem?, List.getElem?_eq_getElem (by omega)]
      have hm := h3 _ (List.getElem_mem (show 0 < (strip s).length by omega))
      have := (fig_dig _ hm.1 hm.2).1
      rw [h0] at this
      rw [← this]; rfl
    have hc := canon 10 (by omega) (by omega) _ hD (.inr hbig)
    generalize hv : vb 10 ((strip s).map dig).reverse = v at *
    have hlv : (E 10 v).length ≤ 400 := by rw [← hc, hlen]; exact h2
    have hv0 : v ≠ 0 := by
      have : 0 < 10 ^ (((strip s).map dig).reverse.length - 1) := Nat.pow_pos (by omega)
      omega
    have hbody : body 10 v = strip s := by
      unfold body
      rw [if_neg hv0, ← hc, List.reverse_reverse, List.map_map]
      refine List.ext_getElem (by simp) fun i g1 g2 => ?_
      rw [List.getElem_map]
      have hm := h3 _ (List.getElem_mem g2)
      exact (fig_dig _ hm.1 hm.2).1
    by_cases hm : s.head? = some 45
    · refine ⟨-(v : Int), by unfold Sh; rw [show (-(v : Int)).natAbs = v by omega]; exact hlv, ?_⟩
      unfold T Tb
      rw [if_pos (by omega), show (-(v : Int)).natAbs = v by omega, hbody]
      unfold strip
      rw [if_pos hm]
      cases s with
      | nil => cases hm
      | cons c s => simp at hm; subst hm; rfl
    · refine ⟨(v : Int), hlv, ?_⟩
      unfold T Tb
      rw [if_neg (by omega), show ((v : Int)).natAbs = v by omega, hbody]
      unfold strip
      rw [if_neg hm]; rfl
  · exact ⟨0, by unfold Sh; decide, rfl⟩
/-- digits from the most significant on -/
def vm (f : Nat) (l : List UInt8) : Nat := l.foldl (fun v c => f * v + c.toNat) 0
theorem vm_nil (f : Nat) : vm f [] = 0 := rfl
theorem vm_snoc (f : Nat) (l : List UInt8) (c : UInt8) : vm f (l ++ [c]) = f * vm f l + c.toNat := by unfold vm; rw [List.foldl_append]; rfl
theorem vm_take (f : Nat) (l : List UInt8) (k : Nat) (h : k < l.length) : vm f (l.take (k + 1)) = f * vm f (l.take k) + (l.getD k 0).toNat := by
  rw [List.take_succ_eq_append_getElem h, vm_snoc, List.getD_eq_getElem?_getD, List.getElem?_eq_getElem h]; rfl
theorem vm_mono (f : Nat) (hf : 1 ≤ f) (l : List UInt8) : ∀ k, vm f (l.take k) ≤ vm f l := by
  intro k
  have : ∀ d, vm f (l.take k) ≤ vm f (l.take (k + d)) := by
    intro d
    induction d with
    | zero => exact Nat.le_refl _
    | succ d ih =>
      by_cases h : k + d < l.length
      · rw [← Nat.add_assoc, vm_take f l _ h]
        have : 1 * vm f (l.take (k + d)) ≤ f * vm f (l.take (k + d)) := Nat.mul_le_mul_right _ hf
        omega
      · rw [List.take_of_length_le (show l.length ≤ k + (d + 1) by omega)]
        rw [List.take_of_length_le (show l.length ≤ k + d by omega)] at ih
        exact ih
  have h := this l.length
  rw [List.take_of_length_le (show l.length ≤ k + l.length by omega)] at h
  exact h
theorem len_scaled (m f s k : Nat) (hf : f ≤ 256) (hs : s < 256) (h : (E 10 m).length ≤ k) : (E 10 (f * m + s)).length ≤ k + 4 := by
  have h1 := (E_len_le 10 m k (by omega)).1 h
  refine (E_len_le 10 _ _ (by omega)).2 ?_
  have h2 : f * m ≤ 256 * m := Nat.mul_le_mul_right _ hf
  have : 10 ^ (k + 4) = 10000 * 10 ^ k := by rw [Nat.pow_add]; omega
  omega
/-- reading the digits of a number from the top makes it -/
theorem vm_reverse (b : Nat) (l : List UInt8) : vm b l.reverse = vb b l := by
  induction l with
  | nil => rfl
  | cons c l ih => rw [List.reverse_cons, vm_snoc, ih, vb]; omega
/-- where the zeros at the end begin -/
theorem trim_where (l : List UInt8) : ∃ k, k ≤ l.length ∧ (∀ j, k ≤ j → j < l.length → l.getD j 0 = 0) ∧ (k = 0 ∨ l.getD (k - 1) 0 ≠ 0) := by
  have : ∀ n, n ≤ l.length → (∀ j, n ≤ j → j < l.length → l.getD j 0 = 0) → ∃ k, k ≤ l.length ∧ (∀ j, k ≤ j → j < l.length → l.getD j 0 = 0) ∧ (k = 0 ∨ l.getD (k - 1) 0 ≠ 0) := by
    intro n
    induction n with
    | zero => intro h1 h2; exact ⟨0, h1, h2, .inl rfl⟩
    | succ n ih =>
      intro h1 h2
      by_cases h : l.getD n 0 = 0
      · exact ih (by omega) (fun j a b => by
          by_cases e : j = n
          · rw [e]; exact h
          · exact h2 j (by omega) b)
      · exact ⟨n + 1, h1, h2, .inr h⟩
  exact this l.length (Nat.le_refl _) (fun j a b => by omega)
theorem canon_take (l : List UInt8) (h : Dg 10 l) : E 10 (vb 10 l) = l.take (E 10 (vb 10 l)).length := by
  obtain ⟨k, h1, h2, h3⟩ := trim_where l
  have := trim_at 10 (by omega) (by omega) l h k h1 h2 h3
  have hl : (E 10 (vb 10 l)).length = k := by rw [← this, List.length_take]; omega
  rw [hl]; exact this.symm
end Go.Proofs.YtpankmaljafnnaaGreatDoor
