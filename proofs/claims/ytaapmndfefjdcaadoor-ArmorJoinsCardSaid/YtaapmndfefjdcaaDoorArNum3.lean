/-
  Helper: the digits of a Base64 text, read one by one into a number of bits.
-/
import Derived.Test.YtaapmndfefjdcaaDoorArNum2
import Derived.Lib.TrimByte
namespace Go.Proofs.YtaapmndfefjdcaaDoor
open Go
set_option linter.unusedVariables false

theorem numB_split (b : List Nat) (p m n : Nat) : numB b p (m + n) = numB b p m * 2 ^ n + numB b (p + m) n := by
  induction n with
  | zero => simp [numB]
  | succ n ih =>
    rw [← Nat.add_assoc]
    simp only [numB]
    rw [ih, Nat.pow_succ, Nat.mul_add, Nat.add_assoc p m n, ← Nat.mul_assoc (numB b p m) (2 ^ n) 2, Nat.mul_comm (numB b p m * 2 ^ n) 2]
    omega
theorem bitE6_val : ∀ v, v < 64 → numB (bitE 6 v) 0 6 = v := by decide +kernel
theorem num_push (st : List Nat) (v : Nat) (h : v < 64) : numB (st ++ bitE 6 v) 0 (st.length + 6) = numB st 0 st.length * 64 + v := by
  rw [numB_split, numB_pre st _ 0 st.length (by omega), Nat.zero_add]
  have := numB_app st (bitE 6 v) 0 6
  rw [Nat.add_zero] at this
  rw [this, bitE6_val v h]
theorem num_byte (st : List Nat) (h01 : B01 st) (j c : Nat) (hl : 8 * j + 8 + c = st.length) (hc : c ≤ 8) : numB st 0 st.length % 4294967296 / 2 ^ c % 256 = numB st (8 * j) 8 := by
  rw [← hl, numB_split st 0 (8 * j + 8) c, numB_split st 0 (8 * j) 8, Nat.zero_add, Nat.zero_add]
  have h1 := numB_lt h01 (8 * j + 8) c
  have h2 := numB_lt h01 (8 * j) 8
  generalize numB st (8 * j + 8) c = r at *
  generalize numB st (8 * j) 8 = x at *
  generalize numB st 0 (8 * j) = y at *
  have h256 : (2 : Nat) ^ 8 = 256 := by decide
  rw [h256] at *
  rcases (show c = 0 ∨ c = 1 ∨ c = 2 ∨ c = 3 ∨ c = 4 ∨ c = 5 ∨ c = 6 ∨ c = 7 ∨ c = 8 by omega) with rfl | rfl | rfl | rfl | rfl | rfl | rfl | rfl | rfl <;> simp only [Nat.reducePow, Nat.pow_zero] at * <;> omega
theorem bytesR_pre (st x : List Nat) (j : Nat) (h : 8 * j ≤ st.length) : bytesR (st ++ x) j = bytesR st j := by
  unfold bytesR
  apply List.map_congr_left
  intro i hi
  rw [List.mem_range] at hi
  rw [numB_pre st x (8 * i) 8 (by omega)]

/-- the text without its padding -/
def trm (l : List UInt8) : List UInt8 := Lib.trimRightB l 61
theorem trm_split (l : List UInt8) : ∃ p : List UInt8, l = trm l ++ p ∧ ∀ c ∈ p, c = 61 := by
  refine ⟨(l.reverse.takeWhile (· == 61)).reverse, ?_, fun c hc => ?_⟩
  · unfold trm Lib.trimRightB
    rw [← List.reverse_append, List.takeWhile_append_dropWhile, List.reverse_reverse]
  · have h := List.all_takeWhile (p := (· == (61 : UInt8))) (l := l.reverse)
    rw [List.all_eq_true] at h
    simpa using h c (List.mem_reverse.1 hc)
theorem stream_pad : ∀ p : List UInt8, (∀ c ∈ p, c = 61) → stream SX 6 p = []
  | [], _ => rfl
  | c :: p, h => by
    have h1 := h c (by simp)
    subst h1
    show dgE SX 6 61 ++ stream SX 6 p = []
    rw [dg_eq, stream_pad p (fun d hd => h d (by simp [hd]))]; rfl
theorem stream_trm (l : List UInt8) : stream SX 6 l = stream SX 6 (trm l) := by
  obtain ⟨p, h1, h2⟩ := trm_split l
  have : stream SX 6 l = stream SX 6 (trm l ++ p) := congrArg _ h1
  rw [this, stream_app, stream_pad p h2, List.append_nil]
theorem b64_parts : ∀ t : List UInt8, ∃ (D : List UInt8) (p : Nat), b64A t = D ++ List.replicate p 61 ∧ ∀ c ∈ D, fnd SX c < 64
  | [] => ⟨[], 0, rfl, fun c hc => by cases hc⟩
  | [a] => by
    have ha : a.toNat < 256 := UInt8.toNat_lt a
    refine ⟨[sx (a.toNat / 4), sx (a.toNat % 4 * 16)], 2, by simp [b64A], fun c hc => ?_⟩
    simp only [List.mem_cons, List.not_mem_nil, or_false] at hc
    rcases hc with rfl | rfl
    · rw [sx_fnd _ (by omega)]; omega
    · rw [sx_fnd _ (by omega)]; omega
  | [a, b] => by
    have ha : a.toNat < 256 := UInt8.toNat_lt a
    have hb : b.toNat < 256 := UInt8.toNat_lt b
    refine ⟨[sx (a.toNat / 4), sx (a.toNat % 4 * 16 + b.toNat / 16), sx (b.toNat % 16 * 4)], 1, by simp [b64A], fun c hc => ?_⟩
    simp only [List.mem_cons, List.not_mem_nil, or_false] at hc
    rcases hc with rfl | rfl | rfl
    · rw [sx_fnd _ (by omega)]; omega
    · rw [sx_fnd _ (by omega)]; omega
    · rw [sx_fnd _ (by omega)]; omega
  | a :: b :: c :: r => by
    have ha : a.toNat < 256 := UInt8.toNat_lt a
    have hb : b.toNat < 256 := UInt8.toNat_lt b
    have hc : c.toNat < 256 := UInt8.toNat_lt c
    obtain ⟨D, p, h1, h2⟩ := b64_parts r
    refine ⟨g4 a.toNat b.toNat c.toNat ++ D, p, ?_, fun d hd => ?_⟩
    · show g4 _ _ _ ++ b64A r = _
      rw [h1, List.append_assoc]
    · rcases List.mem_append.1 hd with hd | hd
      · simp only [g4, List.mem_cons, List.not_mem_nil, or_false] at hd
        rcases hd with rfl | rfl | rfl | rfl
        · rw [sx_fnd _ (by omega)]; omega
        · rw [sx_fnd _ (by omega)]; omega
        · rw [sx_fnd _ (by omega)]; omega
        · rw [sx_fnd _ (by omega)]; omega
      · exact h2 d hd
theorem dropW_rep (p : Nat) (X : List UInt8) : (List.replicate p (61 : UInt8) ++ X).dropWhile (· == 61) = X.dropWhile (· == 61) := by
  induction p with
  | zero => rfl
  | succ p ih => rw [List.replicate_succ, List.cons_append, List.dropWhile_cons_of_pos (by decide), ih]
theorem trm_b64 (t : List UInt8) : ∀ c ∈ trm (b64A t), fnd SX c < 64 := by
  obtain ⟨D, p, h1, h2⟩ := b64_parts t
  intro c hc
  unfold trm Lib.trimRightB at hc
  rw [h1, List.reverse_append, List.reverse_replicate, dropW_rep] at hc
  have h3 := List.mem_reverse.1 hc
  exact h2 c (List.mem_reverse.1 ((List.dropWhile_sublist _).subset h3))
theorem b64_bad (l t : List UInt8) (c : UInt8) (hc : c ∈ trm l) (hf : ¬ fnd SX c < 64) : b64A t ≠ l := fun e => by
  subst e; exact hf (trm_b64 t c hc)
end Go.Proofs.YtaapmndfefjdcaaDoor
