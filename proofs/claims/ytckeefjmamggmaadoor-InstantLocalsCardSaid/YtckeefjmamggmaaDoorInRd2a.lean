/-
  Helper: the reference's clock.
-/
import Derived.Test.YtckeefjmamggmaaDoorInRd1
import Derived.BigRegion
namespace Go.Proofs.YtckeefjmamggmaaDoor
open Go.RowKit
set_option linter.unusedVariables false
set_option linter.unusedSimpArgs false

theorem numv_rep (X : List UInt8) (k : Nat) : numv (X ++ List.replicate k 48) = numv X * 10 ^ k := by
  induction k with
  | zero => simp
  | succ k ih => rw [List.replicate_succ', ← List.append_assoc, numv_snoc, ih, Nat.pow_succ, show ((48 : UInt8).toNat - 48) = 0 from rfl, Nat.add_zero, Nat.mul_comm 10, Nat.mul_assoc]
/-- the nanoseconds of a fraction's digits -/
def frn (X : List UInt8) : Nat := numv (X.take 9 ++ List.replicate (9 - X.length) 48)
def un (k : Nat) : Nat := 100000000 / 10 ^ k
theorem un_lo (k : Nat) (h : k ≤ 8) : un k = 10 ^ (8 - k) := by
  have : k = 0 ∨ k = 1 ∨ k = 2 ∨ k = 3 ∨ k = 4 ∨ k = 5 ∨ k = 6 ∨ k = 7 ∨ k = 8 := by omega
  rcases this with rfl | rfl | rfl | rfl | rfl | rfl | rfl | rfl | rfl <;> rfl
theorem un_hi (k : Nat) (h : 9 ≤ k) : un k = 0 := by
  unfold un
  apply Nat.div_eq_of_lt
  have := Nat.pow_le_pow_right (n := 10) (by omega) h
  omega
theorem un_step (k : Nat) : un k / 10 = un (k + 1) := by unfold un; rw [Nat.div_div_eq_div_mul, Nat.pow_succ]
theorem un_le (k : Nat) : un k ≤ 100000000 := Nat.div_le_self _ _
theorem frn_step (X : List UInt8) (c : UInt8) : frn X + un X.length * (c.toNat - 48) = frn (X ++ [c]) := by
  unfold frn
  by_cases h : X.length ≤ 8
  · rw [un_lo _ h, List.take_of_length_le (by omega), List.take_of_length_le (by simp; omega), numv_rep, numv_rep, numv_snoc, List.length_append, List.length_singleton]
    have e : 9 - X.length = (8 - X.length) + 1 := by omega
    rw [e, show 9 - (X.length + 1) = 8 - X.length by omega, Nat.pow_succ, Nat.add_mul]
    generalize 10 ^ (8 - X.length) = q
    rw [Nat.mul_comm q (c.toNat - 48), ← Nat.mul_assoc, Nat.mul_comm (numv X * q) 10, ← Nat.mul_assoc]
  · rw [un_hi _ (by omega), List.take_append_of_le_length (by omega), show 9 - (X ++ [c]).length = 9 - X.length by simp; omega]
    omega
theorem frn_nil : frn [] = 0 := by decide
theorem frn_le (X : List UInt8) (h : ∀ c ∈ X, isD c = true) : frn X ≤ 999999999 := by
  have h1 := numv_lt (X.take 9 ++ List.replicate (9 - X.length) 48) (fun c hc => by
    rcases List.mem_append.1 hc with h2 | h2
    · exact h c (List.mem_of_mem_take h2)
    · rw [List.eq_of_mem_replicate h2]; rfl)
  have h2 : (X.take 9 ++ List.replicate (9 - X.length) 48).length = 9 := by simp; omega
  rw [h2] at h1
  unfold frn; omega
/-- how many digits stand from p on -/
def rw9 (l : List UInt8) (p : Nat) : Nat := ((l.drop p).takeWhile isD).length
def digs (l : List UInt8) (p : Nat) : List UInt8 := (l.drop p).takeWhile isD
def clockR (l : List UInt8) (p : Nat) (t : RT) : RT × Int :=
  if 0 ≤ twoF l p 2 ∧ 0 ≤ twoF l (p + 3) 2 ∧ 0 ≤ twoF l (p + 6) 2 ∧ isF l (p + 2) 58 = true ∧ isF l (p + 5) 58 = true then
    if isF l (p + 8) 46 = true then
      ({ t with h := twoF l p 2, mi := twoF l (p + 3) 2, s := twoF l (p + 6) 2, tm := true, na := (frn (digs l (p + 9)) : Nat) }, if (digs l (p + 9)).length < 1 ∨ 9 < (digs l (p + 9)).length then -1 else (p : Int) + 9 + ((digs l (p + 9)).length : Nat))
    else ({ t with h := twoF l p 2, mi := twoF l (p + 3) 2, s := twoF l (p + 6) 2, tm := true }, (p : Int) + 8)
  else ({ t with h := twoF l p 2, mi := twoF l (p + 3) 2, s := twoF l (p + 6) 2 }, -1)
theorem fin_clock (tmps : Array Value) (W : World) (N : Nat) (t : RT) (b : Value) (hp : tmps.getD 6 undef = .pointer (some ⟨N, 0, none⟩)) (hb : tmps.getD 7 undef = b) (h : Blk W N 30 t.v) :
    (results Tryd.f24 tmps).run Tryd.prog W = .ok (.tuple #[.agg t.v.toArray, b]) W := by
  rw [results_row_tmp (p := 6) (t := 7) (ty := 30) rfl tmps W N t.v.toArray hp (load_T h), hb]
theorem digs_take (l : List UInt8) (p k : Nat) (h : k < (digs l p).length) : ∃ c, l.getD (p + k) 0 = c ∧ p + k < l.length ∧ isD c = true ∧ (digs l p).take (k + 1) = (digs l p).take k ++ [c] := by
  have h1 := tw_at (l.drop p) k h
  have h3 : (digs l p).length ≤ (l.drop p).length := tw_len _
  rw [List.length_drop] at h3
  have hk : k < (l.drop p).length := by rw [List.length_drop]; omega
  have e0 : (digs l p)[k]'h = (l.drop p)[k]'hk := by
    have hpre : digs l p <+: l.drop p := List.takeWhile_prefix _
    exact hpre.getElem h
  have e1 : (l.drop p).getD k 0 = l.getD (p + k) 0 := by
    rw [List.getD_eq_getElem?_getD, List.getD_eq_getElem?_getD, List.getElem?_drop]
  refine ⟨l.getD (p + k) 0, rfl, by omega, by rw [← e1]; exact h1, ?_⟩
  rw [List.take_succ_eq_append_getElem h, e0, ← e1, List.getD_eq_getElem?_getD, List.getElem?_eq_getElem hk]
  rfl
theorem digs_stop (l : List UInt8) (p : Nat) (h : p + (digs l p).length < l.length) : isD (l.getD (p + (digs l p).length) 0) = false := by
  have h1 := tw_stop (l.drop p) (by rw [List.length_drop]; unfold digs at h; omega)
  rw [show (l.drop p).getD (((l.drop p).takeWhile isD).length) 0 = l.getD (p + (digs l p).length) 0 by
    rw [List.getD_eq_getElem?_getD, List.getD_eq_getElem?_getD, List.getElem?_drop]; rfl] at h1
  exact h1
theorem digs_all (l : List UInt8) (p : Nat) : ∀ c ∈ digs l p, isD c = true := fun c hc => by
  unfold digs at hc
  exact List.all_eq_true.1 List.all_takeWhile c hc
theorem digs_fits (l : List UInt8) (p : Nat) (hp : p ≤ l.length) : p + (digs l p).length ≤ l.length := by
  have := tw_len (l.drop p)
  rw [List.length_drop] at this
  unfold digs; omega
end Go.Proofs.YtckeefjmamggmaaDoor
