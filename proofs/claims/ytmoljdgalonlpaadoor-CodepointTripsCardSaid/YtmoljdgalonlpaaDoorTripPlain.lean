/-
  Helper, plain: what a valid string decodes to is encoded as the string; what numbers are encoded as decodes to the numbers.
-/
import Derived.Test.YtmoljdgalonlpaaDoorCpEnc
import Derived.Test.YtmoljdgalonlpaaDoorOrdPlain
namespace Go.Proofs.YtmoljdgalonlpaaDoor
open Go.RowKit
set_option linter.unusedVariables false

def Enc (l : List Nat) (r : Nat × Nat) : Prop := Lib.validRune (r.1 : Int) = true ∧ l.take r.2 = (Lib.encodeRuneZ (r.1 : Int)).map Int.toNat
theorem enc1 (a : Nat) (t : List Nat) (r : Nat × Nat) : Enc (a :: t) (arm1 a r) ∨ arm1 a r = r := by
  by_cases g : a < 128
  · left
    unfold arm1 Enc
    rw [if_pos g]
    refine ⟨decide_eq_true (by omega), ?_⟩
    show [a] = _
    rw [Lib.encodeRuneZ_one (by omega) (by omega)]; rfl
  · exact .inr (arm1_out a r g)
theorem enc2 (a b : Nat) (t : List Nat) (r : Nat × Nat) (h : (arm2 a b r).2 ≠ 0) : Enc (a :: b :: t) (arm2 a b r) ∨ arm2 a b r = r := by
  by_cases g : (192 ≤ a ∧ a < 224) ∧ cont b
  · left
    unfold arm2 at h ⊢
    rw [if_pos g] at h ⊢
    split at h
    · rename_i k
      rw [if_pos k]
      unfold cont at g
      generalize hv : 64 * (a - 192) + b - 128 = v at *
      refine ⟨decide_eq_true (by show (0 ≤ (v : Int) ∧ (v : Int) < 55296) ∨ _; omega), ?_⟩
      show [a, b] = (Lib.encodeRuneZ (v : Int)).map Int.toNat
      rw [Lib.encodeRuneZ_two (by omega) (by omega)]
      show [a, b] = [(192 + (v : Int) / 64).toNat, (128 + (v : Int) % 64).toNat]
      rw [show (192 + (v : Int) / 64).toNat = a from by omega, show (128 + (v : Int) % 64).toNat = b from by omega]
    · exact absurd rfl h
  · exact .inr (arm2_no a b r g)
theorem enc3 (a b c : Nat) (t : List Nat) (r : Nat × Nat) (h : (arm3 a b c r).2 ≠ 0) : Enc (a :: b :: c :: t) (arm3 a b c r) ∨ arm3 a b c r = r := by
  by_cases g : (224 ≤ a ∧ a < 240) ∧ cont b ∧ cont c
  · left
    unfold arm3 at h ⊢
    rw [if_pos g] at h ⊢
    split at h
    · rename_i k
      rw [if_pos k]
      unfold cont at g
      generalize hv : 64 * (64 * (a - 224) + b - 128) + c - 128 = v at *
      refine ⟨decide_eq_true (by show (0 ≤ (v : Int) ∧ (v : Int) < 55296) ∨ (57343 < (v : Int) ∧ (v : Int) ≤ 1114111); omega), ?_⟩
      show [a, b, c] = (Lib.encodeRuneZ (v : Int)).map Int.toNat
      rw [Lib.encodeRuneZ_three (by omega)]
      show [a, b, c] = [(224 + (v : Int) / 4096).toNat, (128 + (v : Int) / 64 % 64).toNat, (128 + (v : Int) % 64).toNat]
      rw [show (224 + (v : Int) / 4096).toNat = a from by omega, show (128 + (v : Int) / 64 % 64).toNat = b from by omega, show (128 + (v : Int) % 64).toNat = c from by omega]
    · exact absurd rfl h
  · exact .inr (arm3_no a b c r g)
theorem enc4 (a b c d : Nat) (t : List Nat) (h : (arm4 a b c d).2 ≠ 0) : Enc (a :: b :: c :: d :: t) (arm4 a b c d) := by
  unfold arm4 at h ⊢
  by_cases g : (240 ≤ a ∧ a < 248) ∧ cont b ∧ cont c ∧ cont d
  · rw [if_pos g] at h ⊢
    split at h
    · rename_i k
      rw [if_pos k]
      unfold cont at g
      generalize hv : 64 * (64 * (64 * (a - 240) + b - 128) + c - 128) + d - 128 = v at *
      refine ⟨decide_eq_true (by show (0 ≤ (v : Int) ∧ (v : Int) < 55296) ∨ (57343 < (v : Int) ∧ (v : Int) ≤ 1114111); omega), ?_⟩
      show [a, b, c, d] = (Lib.encodeRuneZ (v : Int)).map Int.toNat
      rw [Lib.encodeRuneZ_four (by omega) (by omega)]
      show [a, b, c, d] = [(240 + (v : Int) / 262144).toNat, (128 + (v : Int) / 4096 % 64).toNat, (128 + (v : Int) / 64 % 64).toNat, (128 + (v : Int) % 64).toNat]
      rw [show (240 + (v : Int) / 262144).toNat = a from by omega, show (128 + (v : Int) / 4096 % 64).toNat = b from by omega, show (128 + (v : Int) / 64 % 64).toNat = c from by omega, show (128 + (v : Int) % 64).toNat = d from by omega]
    · exact absurd rfl h
  · rw [if_neg g] at h; exact absurd rfl h
theorem seq_enc (l : List Nat) (h : (seq l).2 ≠ 0) : Enc l (seq l) := by
  match l, h with
  | [], h => exact absurd rfl h
  | [a], h =>
    rcases enc1 a [] (0, 0) with g | g
    · exact g
    · exact absurd (by show (arm1 a (0, 0)).2 = 0; rw [g]) h
  | [a, b], h =>
    rcases enc1 a [b] (arm2 a b (0, 0)) with g | g
    · exact g
    · have e : seq [a, b] = arm2 a b (0, 0) := g
      rw [e] at h ⊢
      rcases enc2 a b [] _ h with k | k
      · exact k
      · rw [k] at h; exact absurd rfl h
  | [a, b, c], h =>
    rcases enc1 a [b, c] (arm2 a b (arm3 a b c (0, 0))) with g | g
    · exact g
    · have e : seq [a, b, c] = arm2 a b (arm3 a b c (0, 0)) := g
      rw [e] at h ⊢
      rcases enc2 a b [c] _ h with k | k
      · exact k
      · rw [k] at h ⊢
        rcases enc3 a b c [] _ h with m | m
        · exact m
        · rw [m] at h; exact absurd rfl h
  | a :: b :: c :: d :: t, h =>
    rcases enc1 a (b :: c :: d :: t) (arm2 a b (arm3 a b c (arm4 a b c d))) with g | g
    · exact g
    · have e : seq (a :: b :: c :: d :: t) = arm2 a b (arm3 a b c (arm4 a b c d)) := g
      rw [e] at h ⊢
      rcases enc2 a b (c :: d :: t) _ h with k | k
      · exact k
      · rw [k] at h ⊢
        rcases enc3 a b c (d :: t) _ h with m | m
        · exact m
        · rw [m] at h ⊢
          exact enc4 a b c d t h
theorem enc_nat (r : Int) : (Lib.encodeRune r).map (·.toNat) = (Lib.encodeRuneZ r).map Int.toNat := by
  unfold Lib.encodeRune
  rw [List.map_map]
  refine List.map_congr_left fun x hx => ?_
  have := Lib.encodeRuneZ_byte r x hx
  show x.toNat.toUInt8.toNat = x.toNat
  rw [Nat.toUInt8, UInt8.toNat_ofNat']
  omega
/-- a valid string's scalars are encoded as the string -/
theorem enc_from (s : ByteArray) : ∀ (n p : Nat), p ≤ s.size → s.size - p ≤ n → stop s p = s.size → (encB (ints32 (scalars s p))).map (·.toNat) = bytesFrom s p ∧ ∀ x ∈ ints32 (scalars s p), Lib.validRune x = true := by
  intro n
  induction n with
  | zero =>
    intro p hp hn hv
    obtain rfl : p = s.size := by omega
    rw [scalars_end, bytesFrom_end s _ (by omega)]
    exact ⟨rfl, fun x hx => by simp [ints32] at hx⟩
  | succ n ih =>
    intro p hp hn hv
    by_cases g : p = s.size
    · rw [g, scalars_end, bytesFrom_end s _ (by omega)]
      exact ⟨rfl, fun x hx => by simp [ints32] at hx⟩
    · have k1 := valid_step s p (by omega) hv
      have h1 := scalars_go s p hp k1
      have l1 := sq_le s p hp
      have hi := ih (p + (sq s p).2) l1.1 (by omega) (by rw [← h1.2]; exact hv)
      have he := seq_enc (bytesFrom s p) k1
      rw [h1.1]
      have e : ints32 ((sq s p).1 :: scalars s (p + (sq s p).2)) = ((sq s p).1 : Int) :: ints32 (scalars s (p + (sq s p).2)) := rfl
      rw [e]
      refine ⟨?_, fun x hx => ?_⟩
      · have e2 : encB (((sq s p).1 : Int) :: ints32 (scalars s (p + (sq s p).2))) = Lib.encodeRune ((sq s p).1 : Int) ++ encB (ints32 (scalars s (p + (sq s p).2))) := by unfold encB; rw [List.flatMap_cons]
        rw [e2, List.map_append, enc_nat, hi.1, ← from_drop]
        have h2 : (bytesFrom s p).take (sq s p).2 = (Lib.encodeRuneZ ((sq s p).1 : Int)).map Int.toNat := he.2
        rw [← h2, List.take_append_drop]
      · rcases List.mem_cons.1 hx with rfl | h
        · exact he.1
        · exact hi.2 x h
theorem nat_inj : ∀ (x y : List UInt8), x.map (·.toNat) = y.map (·.toNat) → x = y
  | [], [], _ => rfl
  | [], _ :: _, h => by simp at h
  | _ :: _, [], h => by simp at h
  | a :: x, b :: y, h => by
    rw [List.map_cons, List.map_cons, List.cons.injEq] at h
    rw [UInt8.toNat_inj.1 h.1, nat_inj x y h.2]
theorem allV_of (xs : List Int) (h : ∀ x ∈ xs, Lib.validRune x = true) : allV xs := fun i hi => by
  rw [List.getD_eq_getElem?_getD, List.getElem?_eq_getElem hi]; exact h _ (List.getElem_mem hi)
theorem mem_allV (xs : List Int) (h : allV xs) : ∀ x ∈ xs, Lib.validRune x = true := fun x hx => by
  obtain ⟨i, hi, rfl⟩ := List.getElem_of_mem hx
  have := h i hi
  rw [List.getD_eq_getElem?_getD, List.getElem?_eq_getElem hi] at this; exact this
theorem trip_s (s : ByteArray) (hv : stop s 0 = s.size) : (⟨(encB (ints32 (scalars s 0))).toArray⟩ : ByteArray) = s ∧ allV (ints32 (scalars s 0)) := by
  have h := enc_from s _ 0 (Nat.zero_le _) (Nat.le_refl _) hv
  refine ⟨?_, allV_of _ h.2⟩
  have e : encB (ints32 (scalars s 0)) = s.data.toList := nat_inj _ _ (by rw [h.1]; unfold bytesFrom; rw [List.drop_zero])
  rw [e]
/-- a number's encoding is a well-formed sequence of it -/
theorem seq_of_enc (r : Int) (h : Lib.validRune r = true) : seq ((Lib.encodeRuneZ r).map Int.toNat) = (r.toNat, (Lib.encodeRuneZ r).length) := by
  have hv := of_decide_eq_true h
  obtain ⟨n, rfl⟩ : ∃ n : Nat, r = n := ⟨r.toNat, by omega⟩
  by_cases g1 : n < 128
  · rw [Lib.encodeRuneZ_one (by omega) (by omega)]
    show arm1 n (0, 0) = (n, 1)
    unfold arm1; rw [if_pos g1]
  · by_cases g2 : n < 2048
    · rw [Lib.encodeRuneZ_two (by omega) (by omega)]
      show arm1 (192 + (n : Int) / 64).toNat (arm2 (192 + (n : Int) / 64).toNat (128 + (n : Int) % 64).toNat (0, 0)) = (n, 2)
      rw [arm1_out _ _ (by omega)]
      unfold arm2
      rw [if_pos (by unfold cont; omega), if_pos (by omega)]
      exact congrArg (fun z : Nat => (z, 2)) (by omega)
    · by_cases g3 : n < 65536
      · rw [Lib.encodeRuneZ_three (by omega)]
        show arm1 (224 + (n : Int) / 4096).toNat (arm2 (224 + (n : Int) / 4096).toNat (128 + (n : Int) / 64 % 64).toNat (arm3 (224 + (n : Int) / 4096).toNat (128 + (n : Int) / 64 % 64).toNat (128 + (n : Int) % 64).toNat (0, 0))) = (n, 3)
        rw [arm1_out _ _ (by omega), arm2_out _ _ _ (by omega)]
        unfold arm3
        rw [if_pos (by unfold cont; omega), if_pos (by omega)]
        exact congrArg (fun z : Nat => (z, 3)) (by omega)
      · rw [Lib.encodeRuneZ_four (by omega) (by omega)]
        show arm1 (240 + (n : Int) / 262144).toNat (arm2 (240 + (n : Int) / 262144).toNat (128 + (n : Int) / 4096 % 64).toNat (arm3 (240 + (n : Int) / 262144).toNat (128 + (n : Int) / 4096 % 64).toNat (128 + (n : Int) / 64 % 64).toNat (arm4 (240 + (n : Int) / 262144).toNat (128 + (n : Int) / 4096 % 64).toNat (128 + (n : Int) / 64 % 64).toNat (128 + (n : Int) % 64).toNat))) = (n, 4)
        rw [arm1_out _ _ (by omega), arm2_out _ _ _ (by omega), arm3_out _ _ _ _ (by omega)]
        unfold arm4
        rw [if_pos (by unfold cont; omega), if_pos (by omega)]
        exact congrArg (fun z : Nat => (z, 4)) (by omega)
theorem dec_enc (s : ByteArray) : ∀ (ys : List Int) (p : Nat), p ≤ s.size → (∀ x ∈ ys, Lib.validRune x = true) → bytesFrom s p = (encB ys).map (·.toNat) → ints32 (scalars s p) = ys ∧ stop s p = s.size
  | [], p, hp, _, h => by
    have hl := bytesFrom_len s p
    rw [h] at hl
    obtain rfl : p = s.size := by have : (([] : List UInt8).map (·.toNat)).length = s.size - p := hl; simp at this; omega
    rw [scalars_end, stop_end]; exact ⟨rfl, rfl⟩
  | r :: ys, p, hp, hv, h => by
    have hr := hv r (List.mem_cons_self)
    have e2 : encB (r :: ys) = Lib.encodeRune r ++ encB ys := by unfold encB; rw [List.flatMap_cons]
    rw [e2, List.map_append, enc_nat] at h
    have hs := seq_of_enc r hr
    have hl := Lib.encodeRuneZ_length r
    have hq : sq s p = (r.toNat, (Lib.encodeRuneZ r).length) := by
      unfold sq; rw [h, seq_app _ _ (by rw [hs]; show (Lib.encodeRuneZ r).length ≠ 0; omega), hs]
    have hg : (sq s p).2 ≠ 0 := by rw [hq]; show (Lib.encodeRuneZ r).length ≠ 0; omega
    have h1 := scalars_go s p hp hg
    have l1 := (sq_le s p hp).1
    rw [hq] at h1 l1
    have hd : bytesFrom s (p + (Lib.encodeRuneZ r).length) = (encB ys).map (·.toNat) := by
      rw [← from_drop, h, List.drop_left' (by rw [List.length_map])]
    have hi := dec_enc s ys _ l1 (fun x hx => hv x (List.mem_cons_of_mem _ hx)) hd
    rw [h1.1, h1.2]
    refine ⟨?_, hi.2⟩
    have e : ints32 (r.toNat :: scalars s (p + (Lib.encodeRuneZ r).length)) = (r.toNat : Int) :: ints32 (scalars s (p + (Lib.encodeRuneZ r).length)) := rfl
    have h0 := (valid_range r hr).1
    show ints32 (r.toNat :: scalars s (p + (Lib.encodeRuneZ r).length)) = r :: ys
    rw [e, hi.1, Int.toNat_of_nonneg h0]
theorem trip_l (xs : List Int) (hv : allV xs) : ints32 (scalars ⟨(encB xs).toArray⟩ 0) = xs ∧ stop ⟨(encB xs).toArray⟩ 0 = (⟨(encB xs).toArray⟩ : ByteArray).size :=
  dec_enc ⟨(encB xs).toArray⟩ xs 0 (Nat.zero_le _) (mem_allV xs hv) (by unfold bytesFrom; rw [List.drop_zero])
end Go.Proofs.YtmoljdgalonlpaaDoor
