/-
  Helper: columns of products: plain facts, and rows of ints.
-/
import Derived.Test.YtpankmaljafnnaaGreatDoorDcV
namespace Go.Proofs.YtpankmaljafnnaaGreatDoor
open Go.RowKit
set_option linter.unusedVariables false
set_option linter.unusedSimpArgs false

/-- the value of columns, the most significant first -/
def cv (l : List Nat) : Nat := l.foldl (fun n c => 10 * n + c) 0
theorem cv_snoc (l : List Nat) (c : Nat) : cv (l ++ [c]) = 10 * cv l + c := by unfold cv; simp
theorem cv_append (l r : List Nat) : cv (l ++ r) = cv l * 10 ^ r.length + cv r := by
  suffices h : ∀ r : List Nat, cv (l ++ r.reverse) = cv l * 10 ^ r.length + cv r.reverse by
    have := h r.reverse
    simpa using this
  intro r
  induction r with
  | nil => simp [cv]
  | cons c r ih =>
    rw [List.reverse_cons, ← List.append_assoc, cv_snoc, ih, cv_snoc, List.length_cons, Nat.pow_succ]
    rw [Nat.mul_add, Nat.add_assoc]
    congr 1
    rw [Nat.mul_comm 10, Nat.mul_assoc]
theorem cv_cons (c : Nat) (l : List Nat) : cv (c :: l) = c * 10 ^ l.length + cv l := by
  have := cv_append [c] l
  have e : cv [c] = c := by unfold cv; simp
  rw [e] at this
  exact this
theorem cv_zeros (n : Nat) : cv (List.replicate n 0) = 0 := by
  induction n with
  | zero => rfl
  | succ n ih => rw [List.replicate_succ, cv_cons, ih]; simp
theorem cdrop_at (l : List Nat) (p : Nat) (h : p < l.length) : l.drop p = l.getD p 0 :: l.drop (p + 1) := by
  rw [List.drop_eq_getElem_cons h, List.getD_eq_getElem?_getD, List.getElem?_eq_getElem h]; rfl
theorem cv_drop (l : List Nat) (at_ k : Nat) (h : at_ + k + 1 = l.length) : cv (l.drop at_) = l.getD at_ 0 * 10 ^ k + cv (l.drop (at_ + 1)) := by
  rw [cdrop_at l at_ (by omega), cv_cons, List.length_drop]
  congr 3; omega
theorem cv_split (l : List Nat) (at_ k : Nat) (h : at_ + k + 1 = l.length) : cv l = cv (l.take at_) * 10 ^ (k + 1) + (l.getD at_ 0 * 10 ^ k + cv (l.drop (at_ + 1))) := by
  rw [← cv_drop l at_ k h]
  conv => lhs; rw [← List.take_append_drop at_ l, cv_append, List.length_drop, show l.length - at_ = k + 1 by omega]
theorem cget_set (l : List Nat) (k c j : Nat) (h : k < l.length) : (l.set k c).getD j 0 = if j = k then c else l.getD j 0 := by
  rw [List.getD_eq_getElem?_getD, List.getD_eq_getElem?_getD, List.getElem?_set]
  by_cases e : k = j
  · subst e; rw [if_pos rfl, if_pos h, if_pos rfl]; rfl
  · rw [if_neg e, if_neg (fun g => e g.symm)]
theorem cv_set (l : List Nat) (at_ k x : Nat) (h : at_ + k + 1 = l.length) : cv (l.set at_ (l.getD at_ 0 + x)) = cv l + x * 10 ^ k := by
  rw [cv_split l at_ k h, cv_split (l.set at_ (l.getD at_ 0 + x)) at_ k (by rw [List.length_set]; exact h), cget_set _ _ _ _ (by omega), if_pos rfl, List.take_set, List.drop_set, if_pos (by omega), Nat.add_mul]
  rw [List.set_eq_of_length_le (by rw [List.length_take]; omega)]
  omega
theorem numv_take (l : List UInt8) (k : Nat) (h : k < l.length) : numv (l.take (k + 1)) = 10 * numv (l.take k) + ((l.getD k 0).toNat - 48) := by
  rw [List.take_add_one, List.getElem?_eq_getElem h, List.getD_eq_getElem?_getD, List.getElem?_eq_getElem h]
  exact numv_snoc _ _
/-- what the columns hold: rows of p's digits up to i, and of digit i up to j of q's digits -/
def ColM (p q : List UInt8) (i j : Nat) (C : List Nat) : Prop :=
  C.length = p.length + q.length ∧ cv C = numv (p.take i) * 10 ^ (p.length - i) * numv q + ((p.getD i 0).toNat - 48) * 10 ^ (p.length - 1 - i) * (numv (q.take j) * 10 ^ (q.length - j)) ∧ (∀ c, C.getD c 0 ≤ 81 * (i * q.length + j))
theorem colm_start (p q : List UInt8) : ColM p q 0 0 (List.replicate (p.length + q.length) 0) := by
  refine ⟨by simp, ?_, fun c => ?_⟩
  · rw [cv_zeros, List.take_zero, List.take_zero]
    have e : numv ([] : List UInt8) = 0 := rfl
    rw [e]; simp
  · rw [List.getD_eq_getElem?_getD, List.getElem?_replicate]
    split <;> simp
theorem colm_step (p q : List UInt8) (i j : Nat) (C : List Nat) (hi : i < p.length) (hj : j < q.length) (hp : (p.getD i 0).toNat - 48 ≤ 9) (hq : (q.getD j 0).toNat - 48 ≤ 9) (h : ColM p q i j C) :
    ColM p q i (j + 1) (C.set (i + j + 1) (C.getD (i + j + 1) 0 + ((p.getD i 0).toNat - 48) * ((q.getD j 0).toNat - 48))) := by
  obtain ⟨h1, h2, h3⟩ := h
  obtain ⟨a, ha⟩ : ∃ a, p.length - 1 - i = a := ⟨_, rfl⟩
  obtain ⟨b, hb⟩ : ∃ b, q.length - 1 - j = b := ⟨_, rfl⟩
  have hx : ((p.getD i 0).toNat - 48) * ((q.getD j 0).toNat - 48) ≤ 9 * 9 := Nat.mul_le_mul hp hq
  refine ⟨by rw [List.length_set]; exact h1, ?_, fun c => ?_⟩
  · rw [cv_set C (i + j + 1) (a + b) _ (by omega), h2, numv_take q j hj, show q.length - j = b + 1 by omega, show q.length - (j + 1) = b by omega, ha]
    rw [Nat.add_assoc]
    congr 1
    rw [Nat.add_mul, Nat.mul_add]
    congr 1
    · congr 1; rw [Nat.pow_succ, Nat.mul_comm 10, Nat.mul_assoc, Nat.mul_comm 10]
    · rw [Nat.pow_add, Nat.mul_assoc, Nat.mul_assoc]
      congr 1
      rw [← Nat.mul_assoc, Nat.mul_comm _ (10 ^ a), Nat.mul_assoc]
  · rw [cget_set _ _ _ _ (by omega)]
    split
    · have := h3 (i + j + 1); omega
    · have := h3 c; omega
theorem colm_next (p q : List UInt8) (i : Nat) (C : List Nat) (hi : i < p.length) (h : ColM p q i q.length C) : ColM p q (i + 1) 0 C := by
  obtain ⟨h1, h2, h3⟩ := h
  obtain ⟨a, ha⟩ : ∃ a, p.length - 1 - i = a := ⟨_, rfl⟩
  refine ⟨h1, ?_, fun c => ?_⟩
  · have e : numv ([] : List UInt8) = 0 := rfl
    rw [h2, List.take_length, List.take_zero, e, Nat.zero_mul, Nat.mul_zero, Nat.add_zero, numv_take p i hi, ha, Nat.sub_self, Nat.pow_zero, Nat.mul_one, show p.length - i = a + 1 by omega, show p.length - (i + 1) = a by omega, ← Nat.add_mul]
    congr 1
    rw [Nat.add_mul, Nat.pow_succ, Nat.mul_comm 10, Nat.mul_assoc, Nat.mul_comm 10]
  · have := h3 c
    rw [Nat.add_mul, Nat.one_mul, Nat.add_zero]; exact this
theorem colm_end (p q : List UInt8) (C : List Nat) (h : ColM p q p.length 0 C) : cv C = numv p * numv q ∧ (∀ c, C.getD c 0 ≤ 81 * (p.length * q.length)) ∧ C.length = p.length + q.length := by
  obtain ⟨h1, h2, h3⟩ := h
  refine ⟨?_, fun c => by have := h3 c; omega, h1⟩
  have e : p.getD p.length 0 = 0 := by rw [List.getD_eq_getElem?_getD, List.getElem?_eq_none (Nat.le_refl _)]; rfl
  have e0 : (0 : UInt8).toNat - 48 = 0 := rfl
  rw [h2, List.take_length, e, e0, Nat.sub_self, Nat.pow_zero, Nat.mul_one, Nat.zero_mul, Nat.zero_mul, Nat.add_zero]
/-- how far the carries have come, from the right -/
def CarI (C : List Nat) (D : List UInt8) (M k cy : Nat) : Prop := D.length = C.length ∧ AD (D.drop (C.length - k)) ∧ cy ≤ M ∧ numv (D.drop (C.length - k)) + cy * 10 ^ k = cv (C.drop (C.length - k))
theorem car_start (C : List Nat) (D : List UInt8) (M : Nat) (h : D.length = C.length) : CarI C D M 0 0 := by
  refine ⟨h, ?_, by omega, ?_⟩
  · rw [Nat.sub_zero, List.drop_of_length_le (by omega)]; intro c hc; simp at hc
  · rw [Nat.sub_zero, List.drop_of_length_le (by omega), List.drop_of_length_le (Nat.le_refl _)]; rfl
theorem car_step (C : List Nat) (D : List UInt8) (M k cy j col : Nat) (h : CarI C D M k cy) (hM : ∀ c, C.getD c 0 ≤ M) (hj : j + k + 1 = C.length) (hcol : col = C.getD j 0 + cy) : CarI C (D.set j (UInt8.ofNat (48 + col % 10))) M (k + 1) (col / 10) := by
  obtain ⟨h1, h2, h3, h4⟩ := h
  have hm := hM j
  have e1 : C.length - (k + 1) = j := by omega
  have e2 : C.length - k = j + 1 := by omega
  rw [e2] at h2 h4
  have hd := dig_nat (col % 10) (by omega)
  refine ⟨by rw [List.length_set]; exact h1, ?_, by omega, ?_⟩
  · rw [e1, set_drop D j _ (by omega)]
    exact h2.cons (by omega) (by omega)
  · rw [e1, set_drop D j _ (by omega), numv_cons, cv_drop C j k hj, hd, List.length_drop, show D.length - (j + 1) = k by omega, Nat.pow_succ]
    have e5 : 48 + col % 10 - 48 = col % 10 := by omega
    rw [e5]
    have e6 : col % 10 * 10 ^ k + numv (D.drop (j + 1)) + col / 10 * (10 ^ k * 10) = col * 10 ^ k + numv (D.drop (j + 1)) := by
      have : col = col % 10 + col / 10 * 10 := by omega
      conv => rhs; rw [this, Nat.add_mul]
      rw [Nat.mul_assoc (col / 10), Nat.mul_comm 10]; omega
    rw [e6]
    have e7 : col * 10 ^ k = C.getD j 0 * 10 ^ k + cy * 10 ^ k := by rw [hcol, Nat.add_mul]
    omega
theorem car_end (p q : List UInt8) (C : List Nat) (D : List UInt8) (M cy : Nat) (hp : AD p) (hq : AD q) (hC : cv C = numv p * numv q) (hl : C.length = p.length + q.length) (h : CarI C D M C.length cy) : numv D = numv p * numv q ∧ AD D ∧ D.length = p.length + q.length := by
  obtain ⟨h1, h2, h3, h4⟩ := h
  rw [Nat.sub_self, List.drop_zero] at h2 h4
  rw [List.drop_zero, hC] at h4
  refine ⟨?_, h2, by rw [h1, hl]⟩
  have a1 := numv_lt p hp
  have a2 := numv_lt q hq
  have a3 : numv p * numv q < 10 ^ C.length := by
    rw [hl, Nat.pow_add]
    have h5 : numv p * numv q ≤ numv p * 10 ^ q.length := Nat.mul_le_mul_left _ (Nat.le_of_lt a2)
    have h6 : numv p * 10 ^ q.length < 10 ^ p.length * 10 ^ q.length := Nat.mul_lt_mul_of_pos_right a1 (p10 _)
    omega
  by_cases hc : cy = 0
  · rw [hc] at h4; omega
  · have : 1 * 10 ^ C.length ≤ cy * 10 ^ C.length := Nat.mul_le_mul_right _ (by omega)
    omega
theorem zi_times (b1 b2 : Bool) (m n : Nat) : zi (b1 != b2) (m * n) = zi b1 m * zi b2 n := by
  cases b1 <;> cases b2 <;> simp [zi, Int.neg_mul, Int.mul_neg]

/-- a row of ints, block g -/
def ints (l : List Nat) : List Value := l.map fun (n : Nat) => Value.int .i64 (n : Int)
def RowI (w : World) (g : Nat) (l : List Nat) : Prop := w.heap[g]? = some (.cells (ints l).toArray 3 (0, 0))
theorem ints_get (l : List Nat) (i : Nat) (h : i < l.length) : (ints l)[i]? = some (.int .i64 ((l.getD i 0 : Nat) : Int)) := by
  unfold ints; rw [List.getElem?_map, List.getElem?_eq_getElem h, List.getD_eq_getElem?_getD, List.getElem?_eq_getElem h]; rfl
theorem RowI.cell {w : World} {g : Nat} {l : List Nat} (h : RowI w g l) (i : Nat) (hi : i < l.length) : w.cell? ⟨g, i, none⟩ = some (.int .i64 ((l.getD i 0 : Nat) : Int)) := by
  unfold RowI at h
  rw [cell_of_row w g i _ 3 (0, 0) h]
  have := ints_get l i hi
  simpa using this
theorem RowI.free {w : World} {g : Nat} {l : List Nat} (h : RowI w g l) (i : Nat) : w.frozen? ⟨g, i, none⟩ = false := by
  unfold RowI at h
  simp [World.frozen?, h]
theorem RowI.set {w : World} {g : Nat} {l : List Nat} (h : RowI w g l) (i c : Nat) (z : Int) (hz : z = (c : Int)) : RowI (w.setCell ⟨g, i, none⟩ (.int .i64 z)) g (l.set i c) := by
  subst hz
  unfold RowI at h ⊢
  have e : ints (l.set i c) = (ints l).set i (.int .i64 (c : Int)) := by unfold ints; rw [List.map_set]
  rw [e]
  simp only [World.setCell, Array.getElem?_modify, if_true, h]
  simp
theorem RowI.go {w w' : World} {B g : Nat} {l : List Nat} (h : RowI w g l) (hb : Below B w w') (hB : g < B) : RowI w' g l := (hb.block g hB).trans h
theorem info_int : (Tryz.prog.info? 3).map (fun i => (i.zero, i.size, i.bytes)) = some (some (.int .i64 0), 1, 8) := by kernel_rfl
theorem make_ints (w : World) {ops : Array Oper} {rest : List Oper} {o : Oper} {a : Act} {Q : Exit → Act → World → Prop}
    (hg : o.guard = none) (l c : Operand) (t : TypeId) (hop : o.op = Op.makeSlice t l c) (h1 : Tryz.prog.underlying t = some (.slice 3)) (L C : Int) (n : Nat) (hl : a.eval l = .int .i64 L) (hc : a.eval c = .int .i64 C) (hL : L = (n : Int)) (hC : C = (n : Int)) (hn : n ≤ 100000000)
    (hK : ∀ w', RowI w' w.heap.size (List.replicate n 0) → Below w.heap.size w w' → wpList Tryz.prog ops Q rest (a.put o.dst (.slice (some ⟨w.heap.size, 0, none⟩) n n)) w') :
    wpList Tryz.prog ops Q (o :: rest) a w := by
  obtain ⟨i0, hi, hz0, hz1, hz2⟩ := info_parts info_int
  refine wpList_make_full w hg l c t hop w.heap.size 3 i0 (.int .i64 0) 1 h1 hi hz0 hz1 .i64 .i64 L C n hl hc hL hC (by rw [hz2]; omega) (by unfold maxLen; omega) (Nat.le_refl _) (fun w' ho hgr => ?_)
  have e : (madeCells (Value.int IntKind.i64 0).cells (n * 1)).toList = ints (List.replicate n 0) := by
    rw [Nat.mul_one]
    refine (toList_madeCells_one _ _).trans ?_
    unfold ints; simp
  rw [e] at ho
  refine hK w' ?_ ((Below.refl _ w).grown hgr (Nat.le_refl _) (fun k hk => by cases hk))
  rcases ho.2 with ⟨h, _⟩ | ⟨g', cap, cur, h', _, hgc, _, _, hs, ht⟩
  · cases h
  · simp only [Value.slice.injEq, Option.some.injEq, Addr.mk.injEq, and_true, true_and] at h'
    obtain ⟨rfl, rfl⟩ := h'
    unfold RowI
    rw [hgc, ← ht, List.take_of_length_le (by simp; omega)]
end Go.Proofs.YtpankmaljafnnaaGreatDoor
