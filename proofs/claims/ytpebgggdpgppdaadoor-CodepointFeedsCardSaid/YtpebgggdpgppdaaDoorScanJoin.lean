/-
  Helper, plain: the well-formed sequences of a valid string, and of what is appended to it.
-/
import Derived.Test.YtpebgggdpgppdaaDoorCpCheck
namespace Go.Proofs.YtpebgggdpgppdaaDoor
open Go.RowKit
set_option linter.unusedVariables false

theorem arm1_same (a : Nat) (r r' : Nat × Nat) (h : a < 128) : arm1 a r = arm1 a r' := by unfold arm1; rw [if_pos h, if_pos h]
theorem arm1_out (a : Nat) (r : Nat × Nat) (h : ¬ a < 128) : arm1 a r = r := by unfold arm1; rw [if_neg h]
theorem arm2_in (a b : Nat) (r r' : Nat × Nat) (h : (192 ≤ a ∧ a < 224) ∧ cont b) : arm2 a b r = arm2 a b r' := by unfold arm2; rw [if_pos h, if_pos h]
theorem arm3_in (a b c : Nat) (r r' : Nat × Nat) (h : (224 ≤ a ∧ a < 240) ∧ cont b ∧ cont c) : arm3 a b c r = arm3 a b c r' := by unfold arm3; rw [if_pos h, if_pos h]
theorem arm2_no (a b : Nat) (r : Nat × Nat) (h : ¬ ((192 ≤ a ∧ a < 224) ∧ cont b)) : arm2 a b r = r := by unfold arm2; rw [if_neg h]
theorem arm3_no (a b c : Nat) (r : Nat × Nat) (h : ¬ ((224 ≤ a ∧ a < 240) ∧ cont b ∧ cont c)) : arm3 a b c r = r := by unfold arm3; rw [if_neg h]
theorem seq_app (l m : List Nat) (h : (seq l).2 ≠ 0) : seq (l ++ m) = seq l := by
  match l, h with
  | [], h => exact absurd rfl h
  | [a], h =>
    by_cases ha : a < 128
    · match m with
      | [] => rfl
      | [b] => exact arm1_same _ _ _ ha
      | [b, c] => exact arm1_same _ _ _ ha
      | b :: c :: d :: m => exact arm1_same _ _ _ ha
    · exact absurd (by show (arm1 a (0, 0)).2 = 0; rw [arm1_out _ _ ha]) h
  | [a, b], h =>
    by_cases ha : a < 128
    · match m with
      | [] => rfl
      | [c] => exact arm1_same _ _ _ ha
      | c :: d :: m => exact arm1_same _ _ _ ha
    · by_cases hb : (192 ≤ a ∧ a < 224) ∧ cont b
      · match m with
        | [] => rfl
        | [c] => exact congrArg (arm1 a) (arm2_in _ _ _ _ hb)
        | c :: d :: m => exact congrArg (arm1 a) (arm2_in _ _ _ _ hb)
      · exact absurd (by show (arm1 a (arm2 a b (0, 0))).2 = 0; rw [arm1_out _ _ ha, arm2_no _ _ _ hb]) h
  | [a, b, c], h =>
    by_cases ha : a < 128
    · match m with
      | [] => rfl
      | d :: m => exact arm1_same _ _ _ ha
    · by_cases hb : (192 ≤ a ∧ a < 224) ∧ cont b
      · match m with
        | [] => rfl
        | d :: m => exact congrArg (arm1 a) (arm2_in _ _ _ _ hb)
      · by_cases hc : (224 ≤ a ∧ a < 240) ∧ cont b ∧ cont c
        · match m with
          | [] => rfl
          | d :: m => exact congrArg (fun r => arm1 a (arm2 a b r)) (arm3_in _ _ _ _ _ hc)
        · exact absurd (by show (arm1 a (arm2 a b (arm3 a b c (0, 0)))).2 = 0; rw [arm1_out _ _ ha, arm2_no _ _ _ hb, arm3_no _ _ _ _ hc]) h
  | a :: b :: c :: d :: l, h => rfl

theorem from_app (s t : ByteArray) (p : Nat) (hp : p ≤ s.size) : bytesFrom (s ++ t) p = bytesFrom s p ++ bytesFrom t 0 := by
  unfold bytesFrom
  rw [ByteArray.data_append, Array.toList_append, List.drop_append_of_le_length (by simpa using hp), List.map_append, List.drop_zero]
theorem from_app2 (s t : ByteArray) (p : Nat) : bytesFrom (s ++ t) (s.size + p) = bytesFrom t p := by
  unfold bytesFrom
  rw [ByteArray.data_append, Array.toList_append, show s.size + p = s.data.toList.length + p from by simp, List.drop_append]
  simp
theorem sq_app (s t : ByteArray) (p : Nat) (hp : p ≤ s.size) (h : (sq s p).2 ≠ 0) : sq (s ++ t) p = sq s p := by
  unfold sq at h ⊢; rw [from_app s t p hp]; exact seq_app _ _ h
theorem sq_app2 (s t : ByteArray) (p : Nat) : sq (s ++ t) (s.size + p) = sq t p := by
  unfold sq; rw [from_app2]
theorem shift_app (s t : ByteArray) (p : Nat) (hp : p ≤ t.size) : scalars (s ++ t) (s.size + p) = scalars t p ∧ stop (s ++ t) (s.size + p) = s.size + stop t p := by
  have key : ∀ n p, p ≤ t.size → t.size - p ≤ n → scalars (s ++ t) (s.size + p) = scalars t p ∧ stop (s ++ t) (s.size + p) = s.size + stop t p := by
    intro n
    induction n with
    | zero =>
      intro p hp hn
      have h0 : (sq t p).2 = 0 := by rw [sq_end t p (by omega)]
      have h1 := scalars_stop t p h0
      have h2 := scalars_stop (s ++ t) (s.size + p) (by rw [sq_app2]; exact h0)
      rw [h1.1, h1.2, h2.1, h2.2]; exact ⟨rfl, rfl⟩
    | succ n ih =>
      intro p hp hn
      by_cases h : (sq t p).2 = 0
      · have h1 := scalars_stop t p h
        have h2 := scalars_stop (s ++ t) (s.size + p) (by rw [sq_app2]; exact h)
        rw [h1.1, h1.2, h2.1, h2.2]; exact ⟨rfl, rfl⟩
      · have hle := sq_le t p hp
        have hi := ih (p + (sq t p).2) hle.1 (by omega)
        have h1 := scalars_go t p hp h
        have h2 := scalars_go (s ++ t) (s.size + p) (by rw [ByteArray.size_append]; omega) (by rw [sq_app2]; exact h)
        rw [sq_app2, show s.size + p + (sq t p).2 = s.size + (p + (sq t p).2) from by omega, hi.1, hi.2] at h2
        rw [h1.1, h1.2, h2.1, h2.2]; exact ⟨rfl, rfl⟩
  exact key _ p hp (Nat.le_refl _)
/-- behind a valid string, a text reads as if it stood alone -/
theorem valid_app (s t : ByteArray) (p : Nat) (hp : p ≤ s.size) (hv : stop s p = s.size) : scalars (s ++ t) p = scalars s p ++ scalars t 0 ∧ stop (s ++ t) p = s.size + stop t 0 := by
  have key : ∀ n p, p ≤ s.size → s.size - p ≤ n → stop s p = s.size → scalars (s ++ t) p = scalars s p ++ scalars t 0 ∧ stop (s ++ t) p = s.size + stop t 0 := by
    intro n
    induction n with
    | zero =>
      intro p hp hn hv
      obtain rfl : p = s.size := by omega
      rw [scalars_end]
      exact shift_app s t 0 (Nat.zero_le _)
    | succ n ih =>
      intro p hp hn hv
      by_cases g : p = s.size
      · rw [g, scalars_end]
        exact shift_app s t 0 (Nat.zero_le _)
      · have h := valid_step s p (by omega) hv
        have hle := sq_le s p hp
        have h1 := scalars_go s p hp h
        have h2 := scalars_go (s ++ t) p (by rw [ByteArray.size_append]; omega) (by rw [sq_app s t p hp h]; exact h)
        rw [sq_app s t p hp h] at h2
        have hi := ih (p + (sq s p).2) hle.1 (by omega) (by rw [← h1.2]; exact hv)
        rw [h2.1, h2.2, h1.1, hi.1, hi.2]
        exact ⟨rfl, rfl⟩
  exact key _ p hp (Nat.le_refl _) hv
end Go.Proofs.YtpebgggdpgppdaaDoor
