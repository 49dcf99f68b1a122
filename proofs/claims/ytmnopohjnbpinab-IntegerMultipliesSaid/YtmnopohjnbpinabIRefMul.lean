/-
  Helper: the walk of the reference's Mul.
-/
import Derived.Test.YtmnopohjnbpinabIRefAdd
import Derived.BigRegion
import Derived.Deep.Cut
namespace Go.Proofs.Ytmnopohjnbpinab
open Go.RowKit
set_option linter.unusedVariables false

/-- the value of columns that are numbers -/
def vn : List Nat → Nat
  | [] => 0
  | c :: l => c + 10 * vn l
theorem vn_zeros (n : Nat) : vn (List.replicate n 0) = 0 := by
  induction n with
  | zero => rfl
  | succ n ih => rw [List.replicate_succ, vn, ih]
theorem vn_append (p q : List Nat) : vn (p ++ q) = vn p + 10 ^ p.length * vn q := by
  induction p with
  | nil => simp [vn]
  | cons c p ih => rw [List.cons_append, vn, vn, ih, List.length_cons, Nat.pow_succ, Nat.mul_add, Nat.add_assoc, Nat.mul_comm (10 ^ p.length) 10, Nat.mul_assoc]
theorem vn_take (l : List Nat) (k : Nat) : vn (l.take (k + 1)) = vn (l.take k) + 10 ^ k * l.getD k 0 := by
  by_cases h : k < l.length
  · rw [List.take_add_one, vn_append, List.getElem?_eq_getElem h, List.getD_eq_getElem?_getD, List.getElem?_eq_getElem h, List.length_take, Nat.min_eq_left (by omega)]
    simp [vn]
  · rw [List.take_of_length_le (by omega), List.take_of_length_le (by omega), List.getD_eq_getElem?_getD, List.getElem?_eq_none (by omega)]
    simp
theorem vn_set (l : List Nat) (k c : Nat) (h : k < l.length) : vn (l.set k c) + 10 ^ k * l.getD k 0 = vn l + 10 ^ k * c := by
  induction l generalizing k with
  | nil => simp at h
  | cons d l ih =>
    cases k with
    | zero => simp [vn]; omega
    | succ k =>
      have := ih k (by simpa using h)
      rw [List.set_cons_succ, vn, vn, List.getD_cons_succ, Nat.pow_succ, Nat.mul_comm (10 ^ k) 10, Nat.mul_assoc, Nat.mul_assoc]
      have e : 10 * (vn (l.set k c) + 10 ^ k * l.getD k 0) = 10 * (vn l + 10 ^ k * c) := by rw [this]
      rw [Nat.mul_add, Nat.mul_add] at e
      omega
theorem nget_set (l : List Nat) (k c j : Nat) (h : k < l.length) : (l.set k c).getD j 0 = if j = k then c else l.getD j 0 := by
  rw [List.getD_eq_getElem?_getD, List.getD_eq_getElem?_getD, List.getElem?_set]
  by_cases e : k = j
  · subst e; rw [if_pos rfl, if_pos h, if_pos rfl]; rfl
  · rw [if_neg e, if_neg (fun g => e g.symm)]

/-- what the columns hold: rows of a's digits up to i, and of digit i up to k of b's digits -/
def Cols (p q : List UInt8) (n i k : Nat) (S : List Nat) : Prop :=
  S.length = n ∧ vn S = vb 10 (p.take i) * vb 10 q + 10 ^ i * ((p.getD i 0).toNat * vb 10 (q.take k)) ∧ (∀ j, S.getD j 0 ≤ 81 * (i + 1)) ∧ (∀ j, i + k ≤ j → S.getD j 0 ≤ 81 * i)
theorem cols_start (p q : List UInt8) (n : Nat) : Cols p q n 0 0 (List.replicate n 0) := by
  refine ⟨by simp, by rw [vn_zeros]; simp [vb], fun j => ?_, fun j _ => ?_⟩
  all_goals
    rw [List.getD_eq_getElem?_getD, List.getElem?_replicate]
    split <;> simp
theorem cols_step (p q : List UInt8) (n i k : Nat) (S : List Nat) (hn : i + k < n) (hp : (p.getD i 0).toNat ≤ 9) (hq : (q.getD k 0).toNat ≤ 9) (h : Cols p q n i k S) :
    Cols p q n i (k + 1) (S.set (i + k) (S.getD (i + k) 0 + (p.getD i 0).toNat * (q.getD k 0).toNat)) := by
  obtain ⟨h1, h2, h3, h4⟩ := h
  have hx : (p.getD i 0).toNat * (q.getD k 0).toNat ≤ 9 * 9 := Nat.mul_le_mul hp hq
  have h5 := h4 (i + k) (Nat.le_refl _)
  refine ⟨by rw [List.length_set]; exact h1, ?_, fun j => ?_, fun j hj => ?_⟩
  · have hs := vn_set S (i + k) (S.getD (i + k) 0 + (p.getD i 0).toNat * (q.getD k 0).toNat) (by omega)
    rw [vb_take, Nat.mul_add (p.getD i 0).toNat, Nat.mul_add (10 ^ i)]
    rw [Nat.mul_add, Nat.pow_add] at hs
    have e : 10 ^ i * ((p.getD i 0).toNat * (10 ^ k * (q.getD k 0).toNat)) = 10 ^ i * 10 ^ k * ((p.getD i 0).toNat * (q.getD k 0).toNat) := by
      rw [Nat.mul_assoc]; congr 1; rw [Nat.mul_left_comm]
    rw [e]
    omega
  · rw [nget_set _ _ _ _ (by omega)]
    split
    · omega
    · exact h3 j
  · rw [nget_set _ _ _ _ (by omega), if_neg (by omega)]
    exact h4 j (by omega)
theorem cols_next (p q : List UInt8) (n i : Nat) (S : List Nat) (h : Cols p q n i q.length S) : Cols p q n (i + 1) 0 S := by
  obtain ⟨h1, h2, h3, h4⟩ := h
  refine ⟨h1, ?_, fun j => Nat.le_trans (h3 j) (by omega), fun j _ => h3 j⟩
  rw [h2, List.take_length, vb_take, List.take_zero, show vb 10 ([] : List UInt8) = 0 from rfl, Nat.mul_zero, Nat.mul_zero, Nat.add_zero, Nat.add_mul, Nat.mul_assoc]
theorem cols_end (p q : List UInt8) (n : Nat) (S : List Nat) (h : Cols p q n p.length 0 S) : vn S = vb 10 p * vb 10 q ∧ (∀ j, S.getD j 0 ≤ 81 * (p.length + 1)) ∧ S.length = n := by
  obtain ⟨h1, h2, h3, _⟩ := h
  refine ⟨?_, h3, h1⟩
  rw [h2, List.take_length, List.take_zero, show vb 10 ([] : List UInt8) = 0 from rfl, Nat.mul_zero, Nat.mul_zero, Nat.add_zero]
theorem carry_col (s : List UInt8) (S : List Nat) (k c x : Nat) (hs : s.length = k) (h : vb 10 s + 10 ^ k * c = vn (S.take k)) (hx : x = c + S.getD k 0) :
    vb 10 (s ++ [UInt8.ofNat (x % 10)]) + 10 ^ (k + 1) * (x / 10) = vn (S.take (k + 1)) := by
  rw [vb_snoc, vn_take, toNat_ofNat _ (by omega), Nat.pow_succ, Nat.mul_assoc, hs, ← h]
  have e : 10 ^ k * (x % 10) + 10 ^ k * (10 * (x / 10)) = 10 ^ k * x := by rw [← Nat.mul_add]; congr 1; omega
  have e2 : 10 ^ k * x = 10 ^ k * c + 10 ^ k * S.getD k 0 := by rw [hx, Nat.mul_add]
  omega

/-- a row of ints, block g -/
def ints (l : List Nat) : List Value := l.map fun (n : Nat) => Value.int .i64 (n : Int)
def RowI (w : World) (g : Nat) (l : List Nat) : Prop := w.heap[g]? = some (.cells (ints l).toArray 3 (0, 0))
theorem ints_get (l : List Nat) (i : Nat) (h : i < l.length) : (ints l)[i]? = some (.int .i64 ((l.getD i 0 : Nat) : Int)) := by
  unfold ints; rw [List.getElem?_map, List.getElem?_eq_getElem h, List.getD_eq_getElem?_getD, List.getElem?_eq_getElem h]; rfl
theorem RowI.cell {w : World} {g : Nat} {l : List Nat} (h : RowI w g l) (i : Nat) (hi : i < l.length) : w.cell? ⟨g, i, none⟩ = some (.int .i64 ((l.getD i 0 : Nat) : Int)) := by
  unfold RowI at h
  rw [cell_of_row w g i _ 3 (0, 0) h]
  have := ints_get l i hi
  simpa using this
theorem RowI.free {w : World} {g : Nat} {l : List Nat} (h : RowI w g l) (i : Nat) : w.frozen? ⟨g, i, none⟩ = false := by
  unfold RowI at h
  simp [World.frozen?, h]
theorem RowI.set {w : World} {g : Nat} {l : List Nat} (h : RowI w g l) (i c : Nat) (z : Int) (hz : z = (c : Int)) : RowI (w.setCell ⟨g, i, none⟩ (.int .i64 z)) g (l.set i c) := by
  subst hz
  unfold RowI at h ⊢
  have e : ints (l.set i c) = (ints l).set i (.int .i64 (c : Int)) := by unfold ints; rw [List.map_set]
  rw [e]
  simp only [World.setCell, Array.getElem?_modify, if_true, h]
  simp
theorem RowI.go {w w' : World} {B g : Nat} {l : List Nat} (h : RowI w g l) (hb : Below B w w') (hB : g < B) : RowI w' g l := (hb.block g hB).trans h
theorem info_int : (Try.prog.info? 3).map (fun i => (i.zero, i.size, i.bytes)) = some (some (.int .i64 0), 1, 8) := by kernel_rfl
theorem make_ints (w : World) {ops : Array Oper} {rest : List Oper} {o : Oper} {a : Act} {Q : Exit → Act → World → Prop}
    (hg : o.guard = none) (l c : Operand) (t : TypeId) (hop : o.op = Op.makeSlice t l c) (h1 : Try.prog.underlying t = some (.slice 3)) (L C : Int) (n : Nat) (hl : a.eval l = .int .i64 L) (hc : a.eval c = .int .i64 C) (hL : L = (n : Int)) (hC : C = (n : Int)) (hn : n ≤ 100000000)
    (hK : ∀ w', RowI w' w.heap.size (List.replicate n 0) → Below w.heap.size w w' → wpList Try.prog ops Q rest (a.put o.dst (.slice (some ⟨w.heap.size, 0, none⟩) n n)) w') :
    wpList Try.prog ops Q (o :: rest) a w := by
  obtain ⟨i0, hi, hz0, hz1, hz2⟩ := info_parts info_int
  refine wpList_make_full w hg l c t hop w.heap.size 3 i0 (.int .i64 0) 1 h1 hi hz0 hz1 .i64 .i64 L C n hl hc hL hC (by rw [hz2]; omega) (by unfold maxLen; omega) (Nat.le_refl _) (fun w' ho hgr => ?_)
  have e : (madeCells (Value.int IntKind.i64 0).cells (n * 1)).toList = ints (List.replicate n 0) := by
    rw [Nat.mul_one]
    refine (toList_madeCells_one _ _).trans ?_
    unfold ints; simp
  rw [e] at ho
  refine hK w' ?_ ((Below.refl _ w).grown hgr (Nat.le_refl _) (fun k hk => by cases hk))
  rcases ho.2 with ⟨h, _⟩ | ⟨g', cap, cur, h', _, hgc, _, _, hs, ht⟩
  · cases h
  · simp only [Value.slice.injEq, Option.some.injEq, Addr.mk.injEq, and_true, true_and] at h'
    obtain ⟨rfl, rfl⟩ := h'
    unfold RowI
    rw [hgc, ← ht, List.take_of_length_le (by simp; omega)]

set_option maxRecDepth 100000 in
set_option maxHeartbeats 2000000 in
theorem refMul_any (x y : Int) (ax ay : Option Addr) (cx cy : Nat) (w : World) (hsx : (E 10 x.natAbs).length ≤ 400) (hsy : (E 10 y.natAbs).length ≤ 400) (hrx : Rb w ax (E 10 x.natAbs)) (hry : Rb w ay (E 10 y.natAbs)) :
    Calls Try.prog 28 #[.agg #[.bool (neg x), .slice ax (E 10 x.natAbs).length cx], .agg #[.bool (neg y), .slice ay (E 10 y.natAbs).length cy]] w (NumP (x * y) w) := by
  have HF := Lib.hid (fun (w4 : World) (ra : Option Addr) (rc : Nat) h h1 h2 u0 u1 => numP_R2 (z := x * y) (w := w) (w2 := w4) (n := w.heap.size) (rc := rc) (b0 := neg x) (b1 := neg y) (v0 := (.slice ax (E 10 x.natAbs).length cx)) (v1 := (.slice ay (E 10 y.natAbs).length cy)) (ra := ra) rfl h h1 h2 u0 u1)
  have HRES := Lib.hid (fun w' h => R2_res w (neg x) (neg y) (.slice ax (E 10 x.natAbs).length cx) (.slice ay (E 10 y.natAbs).length cy) w' h)
  have HSZ := Lib.hid (R2_size w (neg x) (neg y) (.slice ax (E 10 x.natAbs).length cx) (.slice ay (E 10 y.natAbs).length cy))
  have HC : Hid (∀ W, Below (R2 w (neg x) (neg y) (.slice ax (E 10 x.natAbs).length cx) (.slice ay (E 10 y.natAbs).length cy)).heap.size (R2 w (neg x) (neg y) (.slice ax (E 10 x.natAbs).length cx) (.slice ay (E 10 y.natAbs).length cy)) W → (W.cell? ⟨w.heap.size, 0, none⟩ = some (.bool (neg x)) ∧ W.cell? ⟨w.heap.size, 1, none⟩ = some (.slice ax (E 10 x.natAbs).length cx) ∧ W.cell? ⟨w.heap.size + 1, 0, none⟩ = some (.bool (neg y)) ∧ W.cell? ⟨w.heap.size + 1, 1, none⟩ = some (.slice ay (E 10 y.natAbs).length cy)) ∧ Rb W ax (E 10 x.natAbs) ∧ Rb W ay (E 10 y.natAbs)) := Lib.hid fun W h => by
    obtain ⟨h1, h2, h3, h4, h9⟩ := (S2.startR w (neg x) (neg y) (.slice ax (E 10 x.natAbs).length cx) (.slice ay (E 10 y.natAbs).length cy)).keep (by rw [R2_size]; omega) h
    exact ⟨⟨h1, h2, h3, h4⟩, hrx.go ((R2_below w _ _ _ _).trans (h.mono (by rw [R2_size]; omega))), hry.go ((R2_below w _ _ _ _).trans (h.mono (by rw [R2_size]; omega)))⟩
  have HG : Hid (Dg 10 (E 10 x.natAbs) ∧ Dg 10 (E 10 y.natAbs)) := ⟨dg_E 10 _ (by omega) (by omega), dg_E 10 _ (by omega) (by omega)⟩
  have HSGN : Hid (∀ (l : List UInt8) (a : Option Addr) (cap : Nat) W, l.length ≤ 1000000 → l.length ≤ cap → Rb W a l → Dg 10 l → vb 10 l = vb 10 (E 10 x.natAbs) * vb 10 (E 10 y.natAbs) → Calls Try.prog 44 #[.slice a l.length cap, .bool (neg x != neg y)] W (NumP (x * y) W)) := Lib.hid fun l a cap W h1 h2 h3 h4 h5 => by
    have hq := refSigned_any (neg x != neg y) l a cap W h1 h2 h3 h4
    rw [h5, vb_E 10 _ (by omega) (by omega), vb_E 10 _ (by omega) (by omega), zi_mul] at hq; exact hq
  -- the end of the carries: nothing is left over
  have HE : Hid (∀ (s : List UInt8) (c : Nat), vb 10 s + 10 ^ ((E 10 x.natAbs).length + (E 10 y.natAbs).length + 1) * c = vb 10 (E 10 x.natAbs) * vb 10 (E 10 y.natAbs) → vb 10 s = vb 10 (E 10 x.natAbs) * vb 10 (E 10 y.natAbs)) := Lib.hid fun s c h => by
    have a1 := vb_lt 10 _ HG.out.1
    have a2 := vb_lt 10 _ HG.out.2
    have hlt : vb 10 (E 10 x.natAbs) * vb 10 (E 10 y.natAbs) < 10 ^ ((E 10 x.natAbs).length + (E 10 y.natAbs).length + 1) := by
      rw [Nat.pow_succ, Nat.pow_add]
      have h1 : vb 10 (E 10 x.natAbs) * vb 10 (E 10 y.natAbs) ≤ 10 ^ (E 10 x.natAbs).length * 10 ^ (E 10 y.natAbs).length := Nat.mul_le_mul (Nat.le_of_lt a1) (Nat.le_of_lt a2)
      have h2 : 0 < 10 ^ (E 10 x.natAbs).length * 10 ^ (E 10 y.natAbs).length := Nat.mul_pos (Nat.pow_pos (by omega)) (Nat.pow_pos (by omega))
      omega
    by_cases hc : c = 0
    · rw [hc] at h; omega
    · have : 10 ^ ((E 10 x.natAbs).length + (E 10 y.natAbs).length + 1) * 1 ≤ 10 ^ ((E 10 x.natAbs).length + (E 10 y.natAbs).length + 1) * c := Nat.mul_le_mul_left _ (by omega)
      omega
  have HW : Hid ((R2 w (neg x) (neg y) (.slice ax (E 10 x.natAbs).length cx) (.slice ay (E 10 y.natAbs).length cy)) = ((w.alloc (.cells #[.bool (neg x), .slice ax (E 10 x.natAbs).length cx] 28)).alloc (.cells #[.bool (neg y), .slice ay (E 10 y.natAbs).length cy] 28)).alloc (.cells #[.bool false, .slice none 0 0] 28)) := rfl
  clear hrx hry
  generalize hW0 : (R2 w (neg x) (neg y) (.slice ax (E 10 x.natAbs).length cx) (.slice ay (E 10 y.natAbs).length cy)) = W0 at *
  clear hW0
  generalize hPo : NumP (x * y) w = Po at *
  clear hPo
  generalize neg x = bx at *
  generalize neg y = by' at *
  generalize E 10 x.natAbs = p at *
  generalize E 10 y.natAbs = q at *
  generalize hlp : p.length = lp at *
  generalize hlq : q.length = lq at *
  have hlph := Lib.hid hlp
  have hlqh := Lib.hid hlq
  clear hlp hlq
  have hc0 := (HC.out W0 (Below.refl _ _)).1
  go_enter Try.func28, Try.ntmps28
  go_upto_region 1 with fail
  rw [← HW.out]
  obtain ⟨c0, c1, c2, c3⟩ := hc0
  go_wp2_with (at_make; refine make_ints _ rfl _ _ 86 rfl Try.underlying86 _ _ (lp + lq + 1) rfl rfl ?m1 ?m2 ?m3 ?_)
  case m1 => push_cast; omega
  case m2 => push_cast; omega
  case m3 => omega
  intro w1 hrow hb1
  clear c0 c1 c2 c3
  generalize hgg : W0.heap.size = g at *
  have hgh := Lib.hid hgg
  have HROW := Lib.hid hrow
  have HB1 := Lib.hid hb1
  clear hgg hrow hb1
  go_wp2_with fail
  go_loopw [6] (fun v wr => ∃ (i : Nat) (S : List Nat), i ≤ lp ∧ v = .int .i64 i ∧ Hid (Cols p q (lp + lq + 1) i 0 S) ∧ Hid (RowI wr g S) ∧ Hid (Below g W0 wr)) (fun v _ => lp - (intOf v).toNat)
  case atStart => exact ⟨0, _, Nat.zero_le _, rfl, Lib.hid (cols_start p q _), HROW, HB1⟩
  case round =>
    clear HROW HB1
    obtain ⟨i, S, hi, rfl, HS, hrow, hbel⟩ := hrel
    obtain ⟨⟨c0, c1, c2, c3⟩, hra, hrb⟩ := HC.out wr hbel.out
    by_cases hlt : i < lp
    · have hii : (i : Int) < lp := by omega
      clear hra hrb
      go_wp2_with fail
      go_loopw [7] (fun v wr => ∃ (k : Nat) (S : List Nat), k ≤ lq ∧ v = .int .i64 k ∧ Hid (Cols p q (lp + lq + 1) i k S) ∧ Hid (RowI wr g S) ∧ Hid (Below g W0 wr)) (fun v _ => lq - (intOf v).toNat)
      case atStart => exact ⟨0, S, Nat.zero_le _, rfl, HS, hrow, hbel⟩
      case round =>
        clear HS hrow hbel c0 c1 c2 c3
        obtain ⟨k, S, hk, rfl, HS, hrow, hbel⟩ := hrel
        obtain ⟨⟨c0, c1, c2, c3⟩, hra, hrb⟩ := HC.out _ hbel.out
        by_cases hkl : k < lq
        · have hki : (k : Int) < lq := by omega
          obtain ⟨b1, o1, rfl, _, d1⟩ := hra.at i (by have := hlph.out; omega)
          obtain ⟨b2, o2, rfl, _, d2⟩ := hrb.at k (by have := hlqh.out; omega)
          have hp9 := dg_getD 10 (by omega) p HG.out.1 i
          have hq9 := dg_getD 10 (by omega) q HG.out.2 k
          have HS2 := Lib.hid (cols_step p q _ i k S (by omega) (by omega) (by omega) HS.out)
          have hlen := HS.out.1
          have hsc := hrow.out.cell (i + k) (by omega)
          have hsf := hrow.out.free (i + k)
          have hsb := HS.out.2.2.1 (i + k)
          have hsb2 : S.getD (i + k) 0 ≤ 81 * 401 := by omega
          clear hra hrb HS hlen hsb
          generalize hpp : (p.getD i 0).toNat = pi at *
          generalize hqq : (q.getD k 0).toNat = qk at *
          have hpq : (pi : Int) * (qk : Int) ≤ 81 := by
            have : pi * qk ≤ 9 * 9 := Nat.mul_le_mul (by omega) (by omega)
            have : ((pi * qk : Nat) : Int) ≤ 81 := by omega
            push_cast at this; exact this
          have hpq0 : 0 ≤ (pi : Int) * (qk : Int) := Int.mul_nonneg (by omega) (by omega)
          have hz : ((S.getD (i + k) 0 : Nat) : Int) + (pi : Int) * (qk : Int) = ((S.getD (i + k) 0 + pi * qk : Nat) : Int) := by push_cast; rfl
          have hzh := Lib.hid hz
          have hpph := Lib.hid hpp
          have hqqh := Lib.hid hqq
          clear hz hpp hqq
          generalize S.getD (i + k) 0 = sv at *
          have hik : (i : Int) + k < lp + lq + 1 := by omega
          go_wp2_with fail
          go_region
          go_wp2
          go_roundw
          case rel => exact ⟨k + 1, S.set (i + k) (sv + pi * qk), by omega, by go_num, HS2, Lib.hid (hrow.out.set (i + k) _ _ hzh.out), Lib.hid (hbel.out.setCell (p := ⟨g, i + k, none⟩) (Nat.le_refl _) _).drew⟩
          case measure => simp [intOf]; omega
        · have hkq : k = lq := by omega
          have hkd : decide ((k : Int) < (lq : Int)) = false := decide_eq_false (by omega)
          have hki : (lq : Int) ≤ k := by omega
          have HS2 := Lib.hid (cols_next p q (lp + lq + 1) i S (by have := HS.out; rw [hkq] at this; rw [hlqh.out]; exact this))
          clear hra hrb hkq HS
          go_wp2_with fail
          go_roundw
          case rel => exact ⟨i + 1, S, by omega, by go_num, HS2, hrow, hbel⟩
          case measure => simp [intOf]; omega
    · obtain rfl : i = lp := by omega
      have hid : decide ((i : Int) < (i : Int)) = false := decide_eq_false (by omega)
      have hend := cols_end p q _ S (by have := HS.out; rw [hlph.out]; exact this)
      rw [hlph.out] at hend
      have HEND := Lib.hid hend
      have hg5 : g < wr.heap.size := (Array.getElem?_eq_some_iff.1 hrow.out).1
      obtain ⟨w5, hw5⟩ : ∃ w5, w5 = wr := ⟨_, rfl⟩
      subst hw5
      clear hend HS hra hrb
      go_wp2_with fail
      go_loopw [8, 9, 10] (fun v c j wr2 => ∃ (k d : Nat) (s : List UInt8), k ≤ i + lq + 1 ∧ d ≤ 81 * 402 ∧ j = .int .i64 k ∧ c = .int .i64 d ∧ Hid (s.length = k ∧ Dg 10 s ∧ vb 10 s + 10 ^ k * d = vn (S.take k)) ∧ wr2.ownsRow (g + 1) 5 1 v k (bytes s) ∧ Below (g + 1) w5 wr2) (fun _ _ j _ => i + lq + 1 - (intOf j).toNat)
      case atStart => exact ⟨0, 0, [], Nat.zero_le _, by omega, rfl, rfl, ⟨rfl, fun c hc => by simp at hc, by simp [vb, vn]⟩, World.ownsRow_nil _ _ _ _, Below.refl _ _⟩
      case round =>
        clear c0 c1 c2 c3
        obtain ⟨k, d, s, hk, hd, rfl, rfl, HR, hown, hb3⟩ := hrel
        have hg3 := hb3.size
        by_cases hkl : k < i + lq + 1
        · have hki : (k : Int) < (i : Int) + lq + 1 := by omega
          have hsc := (hrow.out.go hb3 (Nat.lt_succ_self g)).cell k (by rw [HEND.out.2.2]; omega)
          have hsb := HEND.out.2.1 k
          have HS3 := Lib.hid (carry_col s S k d _ HR.out.1 HR.out.2.2 rfl)
          have HD := Lib.hid HR.out.2.1
          have HSL := Lib.hid HR.out.1
          have hown1 := Lib.hid hown
          have hb3h := Lib.hid hb3
          clear hown hb3 HR
          generalize S.getD k 0 = sv at *
          have hsv : sv ≤ 81 * 401 := by omega
          clear hsb
          go_wp2_with (at_builtin; refine append_byte rfl (.tmp 67) (.tmp 71) 26 rfl Try.underlying26 _ (g + 1) _ k s (UInt8.ofNat ((d + sv) % 10)) rfl rfl hown1.out w5 hb3h.out ?c4 ?c5 ?c6 ?_)
          case c4 => omega
          case c5 => omega
          case c6 => (rw [toNat_ofNat _ (by omega)]; push_cast; first | rfl | omega)
          intro v' w2 hown2 hb2 hsp2
          clear hsp2
          go_wp2
          go_roundw
          case rel => exact ⟨k + 1, (d + sv) / 10, s ++ [UInt8.ofNat ((d + sv) % 10)], by omega, by omega, by go_num, by push_cast; rfl, ⟨by rw [List.length_append, HSL.out]; rfl, dg_snoc 10 s HD.out _ (by rw [toNat_ofNat _ (by omega)]; omega), HS3.out⟩, hown2, hb2⟩
          case measure => simp [intOf]; omega
        · have hkN : k = i + lq + 1 := by omega
          have hki : (i : Int) + lq + 1 ≤ (k : Int) := by omega
          have hv := HR.out.2.2
          rw [List.take_of_length_le (by rw [HEND.out.2.2]; omega), HEND.out.1, hkN] at hv
          have hv2 := HE.out s d hv
          obtain ⟨va, vc, rfl, hsl, hvc, hrbv⟩ := rb_of_row hown
          have hs6 : s.length ≤ 1000000 := by omega
          have HSG := Lib.hid (HSGN.out s va vc wr hs6 (by omega) hrbv HR.out.2.1 hv2)
          have hbel3 := Lib.hid (hbel.out.trans (hb3.mono (Nat.le_succ g)))
          obtain ⟨⟨c0, c1, c2, c3⟩, _, _⟩ := HC.out wr hbel3.out
          rw [← hsl] at HSG
          clear hv hv2 HR hown hvc hrbv hs6 hb3 hsl hkN HEND HC HG HSGN HE hrow
          go_wp2_with fail
          refine HSG.out.mono ?_
          rintro e w6 ⟨ra, rc, rfl, hr6, hc6, hb6⟩
          have hbel6 := Lib.hid (hbel3.out.trans (hb6.mono (by have := hbel3.out.size; have := hgh.out; omega)))
          obtain ⟨r0, r1, r2, r3⟩ := HRES.out w6 hbel6.out
          have HF6 := Lib.hid (fun u0 u1 => HF.out w6 ra rc hbel6.out hr6 hc6 u0 u1)
          clear c0 c1 c2 c3 hb6 hr6 hc6 HSG
          go_wp2
          refine bodyPost_ret (v := .agg #[.bool (neg (x * y)), .slice ra (E 10 (x * y).natAbs).length rc]) (by simp [results, Try.results28, go_sem, r0, r1]) rfl ?_
          exact HF6.out _ _
end Go.Proofs.Ytmnopohjnbpinab
