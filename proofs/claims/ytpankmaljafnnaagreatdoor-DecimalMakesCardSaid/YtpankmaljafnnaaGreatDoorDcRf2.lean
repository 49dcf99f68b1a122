/-
  Helper: the walks of the reference's sign, Coef, Show, Limit.
-/
import Derived.Test.YtpankmaljafnnaaGreatDoorDcFrame
import Derived.Deep.LoopGhost
import Derived.IntWalk
import Derived.Outline
namespace Go.Proofs.YtpankmaljafnnaaGreatDoor
open Go.RowKit
set_option linter.unusedVariables false
set_option linter.unusedSimpArgs false

theorem ints_len (l : List Nat) : (ints l).length = l.length := List.length_map ..
theorem ints_snoc (l : List Nat) (c : Nat) : ints l ++ [.int .i64 (c : Int)] = ints (l ++ [c]) := by unfold ints; simp
/-- the cells behind a slice that reads as a list of ints -/
def Ib (w : World) (a : Option Addr) (l : List Nat) : Prop :=
  l = [] ∨ ∃ b off, a = some ⟨b, off, none⟩ ∧ b < w.heap.size ∧ ∀ i, i < l.length → w.cell? ⟨b, off + i, none⟩ = some (.int .i64 ((l.getD i 0 : Nat) : Int))
theorem Ib.below {w w' : World} {B : Nat} {a : Option Addr} {l : List Nat} (h : Ib w a l) (hb : Below B w w') (hB : w.heap.size ≤ B) : Ib w' a l := by
  rcases h with h | ⟨b, off, rfl, hlt, hc⟩
  · exact .inl h
  · exact .inr ⟨b, off, rfl, Nat.lt_of_lt_of_le hlt hb.size, fun i hi => by rw [hb.cell (Nat.lt_of_lt_of_le hlt hB)]; exact hc i hi⟩
theorem Ib.go {w w' : World} {a : Option Addr} {l : List Nat} (h : Ib w a l) (hb : Below w.heap.size w w') : Ib w' a l := h.below hb (Nat.le_refl _)
theorem Ib.at {w : World} {a : Option Addr} {l : List Nat} (h : Ib w a l) (i : Nat) (hi : i < l.length) : ∃ b off, a = some ⟨b, off, none⟩ ∧ b < w.heap.size ∧ w.cell? ⟨b, off + i, none⟩ = some (.int .i64 ((l.getD i 0 : Nat) : Int)) := by
  rcases h with rfl | ⟨b, off, rfl, hlt, hc⟩
  · simp at hi
  · exact ⟨b, off, rfl, hlt, hc i hi⟩
theorem ib_of_row {w : World} {B n e : Nat} {v : Value} {l : List Nat} (h : w.ownsRow B e 1 v n (ints l)) : ∃ a cap, v = .slice a n cap ∧ n = l.length ∧ n ≤ cap ∧ Ib w a l := by
  have hlen : l.length = n := by have := h.1; rw [ints_len, Nat.mul_one] at this; exact this
  rcases h.2 with ⟨rfl, rfl⟩ | ⟨g, cap, cur, rfl, _, hg, hn, _⟩
  · exact ⟨none, 0, rfl, hlen.symm, Nat.le_refl _, .inl (List.eq_nil_of_length_eq_zero hlen)⟩
  · refine ⟨_, cap, rfl, hlen.symm, hn, .inr ⟨g, 0, rfl, (Array.getElem?_eq_some_iff.1 hg).1, fun i hi => ?_⟩⟩
    have hc := h.cells (g := g) rfl i _ (ints_get l i hi)
    have e : (⟨g, 0, none⟩ : Addr).add i = ⟨g, 0 + i, none⟩ := by cases i <;> simp [Addr.add]
    rw [e] at hc; exact hc
/-- 'out = append(out, c)' at a row of ints: out is nil or the call's own -/
theorem append_int {w : World} {ops : Array Oper} {rest : List Oper} {o : Oper} {a : Act} {Q : Exit → Act → World → Prop} (hgd : o.guard = none) (s x : Operand) (t : TypeId)
    (ho : o.op = Op.call { callee := Callee.builtin Builtin.append, args := #[s, x], argTypes := #[t, t] }) (hu : Tryz.prog.underlying t = some (.slice 3))
    (z : Int) (B : Nat) (v : Value) (n : Nat) (l : List Nat) (c : Nat) (hs : a.eval s = v) (hx : a.eval x = .slice (some ⟨w.heap.size, 0, none⟩) 1 1)
    (hown : w.ownsRow B 3 1 v n (ints l)) (w0 : World) (hb : Below B w0 w) (hB : B ≤ w.heap.size) (hn : n ≤ 100000000) (hz : z = (c : Int))
    (h : ∀ v' w1, w1.ownsRow B 3 1 v' (n + 1) (ints (l ++ [c])) → Below B w0 w1 → Spared w v w1 → wpList Tryz.prog ops Q rest (a.put o.dst v') w1) :
    wpList Tryz.prog ops Q (o :: rest) a (w.alloc (.cells #[.int .i64 z] 3)) := by
  obtain ⟨i0, hi, hz0, hz1, hz2⟩ := info_parts info_int
  have hlt := hown.lt
  refine wpList_append_own _ hgd s x t ho B 3 i0 (.int .i64 0) 1 8 hu hi hz0 hz1 hz2 rfl (by decide) v n (ints l) hs (hown.alloc _) ⟨w.heap.size, 0, none⟩ 1 1 [.int .i64 (c : Int)] hx rfl ?_ ?_ (by unfold maxLen; omega) (by omega) (by simp; omega) ?_
  · intro j u hj
    match j, hj with
    | 0, hj => simp at hj; subst hj; rw [hz]; simp [Addr.add]
  · intro u hu'; simp at hu'; subst hu'; rfl
  · intro v' w1 ho' hgr _
    rw [ints_snoc] at ho'
    refine h v' w1 ho' ((hb.alloc hB _).grown hgr (by simp; omega) (fun k hk => (hlt k hk).1)) ⟨?_, fun k h1 h2 => ?_⟩
    · have := hgr.size
      simp at this; omega
    · rw [hgr.block k (by simp; omega) h2]
      exact Below.heap_alloc _ _ _ h1
def IntP (l : List Nat) (w : World) (e : Ending) (w' : World) : Prop := ∃ v, e = .returned v ∧ w'.ownsRow w.heap.size 3 1 v l.length (ints l) ∧ Below w.heap.size w w'


/-- the digits of a coefficient as numbers, the most significant first; none for 0 -/
def dgs (n : Nat) : List Nat := if n = 0 then [] else (body 10 n).map fun c => c.toNat - 48
theorem dgs_len (n : Nat) (h : n ≠ 0) : (dgs n).length = (body 10 n).length := by unfold dgs; rw [if_neg h, List.length_map]
theorem dgs_le (n : Nat) : ∀ d ∈ dgs n, d ≤ 9 := by
  intro d hd
  unfold dgs at hd
  split at hd
  · simp at hd
  · obtain ⟨c, hc, rfl⟩ := List.mem_map.1 hd
    have := body_AD n c hc
    omega
theorem dgs_chars (n : Nat) (h : n ≠ 0) : (dgs n).map (fun d => UInt8.ofNat (48 + d)) = body 10 n := by
  unfold dgs
  rw [if_neg h, List.map_map]
  conv => rhs; rw [← List.map_id (body 10 n)]
  apply List.map_congr_left
  intro c hc
  exact chr_dig c (body_AD n c hc)
set_option maxRecDepth 100000 in
set_option maxHeartbeats 2000000 in
theorem rnumN : ∀ (m n : Nat), n < m → n ≤ 1000000000 → ∀ w, Calls Tryz.prog 42 #[.int .i64 (n : Int)] w (fun en w' => en = .returned (.string (mkB (body 10 n))) ∧ Below w.heap.size w w')
  | 0, n, h, _, w => absurd h (Nat.not_lt_zero _)
  | m + 1, n, h, hn, w => by
    by_cases h9 : n ≤ 9
    · obtain ⟨W1, hW1⟩ : ∃ W1, w.alloc (.cells #[.int .u8 (48 + (n : Int))] 5) = W1 := ⟨_, rfl⟩
      have hb : Below w.heap.size w W1 := by rw [← hW1]; exact (Below.refl _ w).alloc (Nat.le_refl _) _
      have hrow : Row W1 w.heap.size 5 [UInt8.ofNat (48 + n)] := by
        have e : (bytes [UInt8.ofNat (48 + n)]).toArray = #[.int .u8 (48 + (n : Int))] := by
          unfold bytes
          simp only [List.map_cons, List.map_nil, dig_nat n (by omega)]
          rw [Int.natCast_add]; rfl
        have := Row.new w 5 [UInt8.ofNat (48 + n)]
        rw [e, hW1] at this
        exact this
      have hcv := conv_str hrow.rb 1 (by simp)
      have hcv2 : (convert 59 9 (.slice (some ⟨w.heap.size, 0, none⟩) 1 1)).run Tryz.prog W1 = .ok (.string (mkB (body 10 n))) W1 := by
        rw [body_small n (by omega)]; exact hcv
      have hfin : Hid ((fun (en : Ending) (w' : World) => en = .returned (.string (mkB (body 10 n))) ∧ Below w.heap.size w w') (Ending.returned (.string (mkB (body 10 n)))) W1) := ⟨rfl, hb⟩
      generalize (fun (en : Ending) (w' : World) => en = .returned (.string (mkB (body 10 n))) ∧ Below w.heap.size w w') = Po at *
      generalize mkB (body 10 n) = R at *
      have q1 : ¬ (n : Int) < 0 := by omega
      have q2 : ¬ (9 : Int) < (n : Int) := by omega
      clear hcv hrow hb
      go_enter Tryz.func42, Tryz.ntmps42
      go_wp2
      exact hfin.out
    · have H1 := Lib.hid (fun V => rnumN m (n / 10) (by omega) (by omega) V)
      have H2 := Lib.hid (fun V => rnumN m (n % 10) (by omega) (by omega) V)
      have hcat : mkB (body 10 (n / 10)) ++ mkB (body 10 (n % 10)) = mkB (body 10 n) := by
        have e : n = 10 * (n / 10) + n % 10 := by omega
        conv => rhs; rw [e]
        rw [body_step _ _ (by omega) (by omega), mkB_app, body_small (n % 10) (by omega)]
      have HF : Hid (∀ w', Below w.heap.size w w' → (fun (en : Ending) (w' : World) => en = .returned (.string (mkB (body 10 n))) ∧ Below w.heap.size w w') (Ending.returned (.string (mkB (body 10 (n / 10)) ++ mkB (body 10 (n % 10))))) w') := fun w' h => ⟨by rw [hcat], h⟩
      generalize (fun (en : Ending) (w' : World) => en = .returned (.string (mkB (body 10 n))) ∧ Below w.heap.size w w') = Po at *
      have hz1 : (mkB (body 10 (n / 10))).size ≤ 100 := by
        rw [mkB_size]; exact Nat.le_trans (body_len _ 10 ((E_len_le 10 _ 10 (by omega)).2 (by omega)) (by omega)) (by omega)
      have hz2 : (mkB (body 10 (n % 10))).size ≤ 100 := by
        rw [mkB_size]; exact Nat.le_trans (body_len _ 10 ((E_len_le 10 _ 10 (by omega)).2 (by omega)) (by omega)) (by omega)
      clear hcat
      generalize mkB (body 10 (n / 10)) = A at *
      generalize mkB (body 10 (n % 10)) = B at *
      have l1 : (9223372036854775807 < A.size + B.size) = False := eq_false (by omega)
      have q1 : ¬ (n : Int) < 0 := by omega
      have q2 : (9 : Int) < (n : Int) := by omega
      have e1 : (n : Int) / 10 = ((n / 10 : Nat) : Int) := by omega
      have e2 : (n : Int) % 10 = ((n % 10 : Nat) : Int) := by omega
      have H1' : Hid (∀ V, Calls Tryz.prog 42 #[.int .i64 ((n : Int) / 10)] V (fun en w' => en = .returned (.string A) ∧ Below V.heap.size V w')) := fun V => by rw [e1]; exact H1.out V
      have H2' : Hid (∀ V, Calls Tryz.prog 42 #[.int .i64 ((n : Int) % 10)] V (fun en w' => en = .returned (.string B) ∧ Below V.heap.size V w')) := fun V => by rw [e2]; exact H2.out V
      clear H1 H2 e1 e2
      go_enter Tryz.func42, Tryz.ntmps42
      go_wp2_with fail
      refine (H1'.out _).mono ?_
      rintro en w1 ⟨rfl, b1⟩
      have B1 := Lib.hid b1
      clear b1
      go_wp2_with fail
      refine (H2'.out _).mono ?_
      rintro en w2 ⟨rfl, b2⟩
      have hfin := Lib.hid (HF.out _ (B1.out.trans (b2.mono B1.out.size)))
      clear b2 B1 HF H1' H2'
      go_wp2
      exact hfin.out
set_option maxRecDepth 100000 in
set_option maxHeartbeats 2000000 in
theorem rnum_any (z : Int) (h1 : -100000000 ≤ z) (h2 : z ≤ 100000000) (w : World) : Calls Tryz.prog 42 #[.int .i64 z] w (fun en w' => en = .returned (.string (mkB (T z))) ∧ Below w.heap.size w w') := by
  by_cases h : z < 0
  · have H1 := Lib.hid (fun V => rnumN (z.natAbs + 1) z.natAbs (by omega) (by omega) V)
    rw [show ((z.natAbs : Nat) : Int) = -z by omega] at H1
    have hT : (⟨#[45]⟩ : ByteArray) ++ mkB (body 10 z.natAbs) = mkB (T z) := by
      unfold T Tb; rw [if_pos h, mkB_app]; rfl
    have HF : Hid (∀ w', Below w.heap.size w w' → (fun (en : Ending) (w' : World) => en = .returned (.string (mkB (T z))) ∧ Below w.heap.size w w') (Ending.returned (.string ((⟨#[45]⟩ : ByteArray) ++ mkB (body 10 z.natAbs)))) w') := fun w' g => ⟨by rw [hT], g⟩
    generalize (fun (en : Ending) (w' : World) => en = .returned (.string (mkB (T z))) ∧ Below w.heap.size w w') = Po at *
    have hz1 : (mkB (body 10 z.natAbs)).size ≤ 100 := by
      rw [mkB_size]; exact Nat.le_trans (body_len _ 10 ((E_len_le 10 _ 10 (by omega)).2 (by omega)) (by omega)) (by omega)
    clear hT
    generalize mkB (body 10 z.natAbs) = A at *
    have hw : IntKind.i64.wrap (-z) = -z := wrapI _ (by omega) (by omega)
    go_enter Tryz.func42, Tryz.ntmps42
    go_wp2_with fail
    refine (H1.out _).mono ?_
    rintro en w1 ⟨rfl, b1⟩
    have hfin := Lib.hid (HF.out _ b1)
    clear b1 HF H1
    go_wp2
    exact hfin.out
  · have := rnumN (z.natAbs + 1) z.natAbs (by omega) (by omega) w
    rw [show ((z.natAbs : Nat) : Int) = z by omega] at this
    have e : T z = body 10 z.natAbs := by unfold T Tb; rw [if_neg h]; rfl
    rw [e]; exact this
/-- digits as a text -/
def wordL (l : List Nat) : List UInt8 := l.map fun d => UInt8.ofNat (48 + d)
theorem wordL_snoc (l : List Nat) (k : Nat) (h : k < l.length) : wordL (l.take (k + 1)) = wordL (l.take k) ++ [UInt8.ofNat (48 + l.getD k 0)] := by
  unfold wordL
  rw [List.take_add_one, List.getElem?_eq_getElem h, List.getD_eq_getElem?_getD, List.getElem?_eq_getElem h, List.map_append]; rfl
set_option maxRecDepth 100000 in
set_option maxHeartbeats 2000000 in
theorem word_any (l : List Nat) (hd : ∀ d ∈ l, d ≤ 9) (hl : l.length ≤ 100000) (a : Option Addr) (cap : Nat) (w : World) (hr : Ib w a l) : Calls Tryz.prog 46 #[.slice a l.length cap] w (fun en w' => en = .returned (.string (mkB (wordL l))) ∧ Below w.heap.size w w') := by
  have HX : Hid (∀ V, Below w.heap.size w V → ∀ i, i < l.length → ∃ b off, a = some ⟨b, off, none⟩ ∧ b < V.heap.size ∧ V.cell? ⟨b, off + i, none⟩ = some (.int .i64 ((l.getD i 0 : Nat) : Int))) := fun V h i hi => (hr.go h).at i hi
  have HD : Hid (∀ i, i < l.length → l.getD i 0 ≤ 9) := fun i hi => by
    rw [List.getD_eq_getElem?_getD, List.getElem?_eq_getElem hi]; exact hd _ (List.getElem_mem hi)
  have HW := Lib.hid (fun k h => wordL_snoc l k h)
  have HLn : Hid (∀ k, k ≤ l.length → (mkB (wordL (l.take k))).size = k) := fun k hk => by
    rw [mkB_size]; unfold wordL; rw [List.length_map, List.length_take]; omega
  have HN := Lib.hid (fun d (h : d ≤ 9) V => rnumN (d + 1) d (by omega) (by omega) V)
  have HF : Hid (∀ w', Below w.heap.size w w' → (fun (en : Ending) (w' : World) => en = .returned (.string (mkB (wordL l))) ∧ Below w.heap.size w w') (Ending.returned (.string (mkB (wordL (l.take l.length))))) w') := fun w' g => ⟨by rw [List.take_length], g⟩
  generalize (fun (en : Ending) (w' : World) => en = .returned (.string (mkB (wordL l))) ∧ Below w.heap.size w w') = Po at *
  generalize hn : l.length = n at *
  clear hn hd hr
  go_enter Tryz.func46, Tryz.ntmps46
  go_wp2_with fail
  go_loopw [4, 3] (fun iv sv wr => ∃ (k : Nat) (S : ByteArray), k ≤ n ∧ iv = .int .i64 k ∧ sv = .string S ∧ S.size = k ∧ Hid (S = mkB (wordL (l.take k))) ∧ Hid (Below w.heap.size w wr)) (fun iv _ _ => n - (intOf iv).toNat)
  case atStart => exact ⟨0, ⟨#[]⟩, Nat.zero_le _, rfl, rfl, rfl, rfl, Below.refl _ _⟩
  case round =>
    obtain ⟨k, S, hk, rfl, rfl, hS1, hS, hbel⟩ := hrel
    by_cases hlt : k < n
    · have hki : (k : Int) < (n : Int) := by omega
      obtain ⟨b, off, rfl, _, x1⟩ := HX.out wr hbel.out k hlt
      have hd9 := HD.out k hlt
      have HN2 := Lib.hid (HN.out (l.getD k 0) hd9)
      rw [body_small _ (by omega)] at HN2
      have HS2 : Hid (S ++ mkB [UInt8.ofNat (48 + l.getD k 0)] = mkB (wordL (l.take (k + 1)))) := by
        show _ = _
        rw [HW.out k hlt, mkB_app, hS.out]
      have hz : (mkB [UInt8.ofNat (48 + l.getD k 0)]).size = 1 := rfl
      clear HF HX HD HW HN HLn hS
      generalize mkB [UInt8.ofNat (48 + l.getD k 0)] = D at *
      generalize l.getD k 0 = dk at *
      have l1 : (9223372036854775807 < S.size + D.size) = False := eq_false (by omega)
      go_wp2_with fail
      refine (HN2.out _).mono ?_
      rintro en w2 ⟨rfl, q2⟩
      have B2 := Lib.hid (hbel.out.trans (q2.mono hbel.out.size))
      clear q2 HN2 x1 hbel
      go_wp2
      go_roundw
      case rel => exact ⟨k + 1, _, by omega, by go_num, rfl, by rw [ByteArray.size_append]; omega, HS2, B2⟩
      case measure => simp [intOf]; omega
    · obtain rfl : k = n := by omega
      have hki : ¬ (k : Int) < (k : Int) := by omega
      have hfin := Lib.hid (HF.out wr hbel.out)
      rw [← hS.out] at hfin
      clear HF HX HD HW HN HLn hbel hS
      go_wp2
      exact hfin.out

def sgS (b : Bool) : ByteArray := if b then ⟨#[45]⟩ else ⟨#[]⟩
/-- the box of a reference's number -/
theorem dbox (w : World) (b : Bool) (a : Option Addr) (n c : Nat) (e : Int) : ∃ N W, w.heap.size = N ∧ w.alloc (.cells (nvl b a n c e).toArray 28) = W ∧ Hid (∀ V, Below W.heap.size W V → V.cell? ⟨N, 0, none⟩ = some (.bool b) ∧ V.cell? ⟨N, 1, none⟩ = some (.slice a n c) ∧ V.cell? ⟨N, 2, none⟩ = some (.int .i64 e)) ∧ Hid (Below w.heap.size w W) := by
  have hB := Blk.new w 28 (nvl b a n c e)
  refine ⟨_, _, rfl, rfl, fun V h => ?_, (Below.refl _ w).alloc (Nat.le_refl _) _⟩
  have y := hB.go h hB.lt
  exact ⟨y.cell 0 _ rfl, y.cell 1 _ rfl, y.cell 2 _ rfl⟩
set_option maxRecDepth 100000 in
set_option maxHeartbeats 1000000 in
theorem rsign_any (b : Bool) (a : Option Addr) (n c : Nat) (e : Int) (w : World) : Calls Tryz.prog 45 #[.agg (nvl b a n c e).toArray] w (fun en w' => en = .returned (.string (sgS b)) ∧ Below w.heap.size w w') := by
  obtain ⟨N, wb, hN, hwb, HX, hb⟩ := dbox w b a n c e
  obtain ⟨c0, c1, c2⟩ := HX.out wb (Below.refl _ _)
  have hfin : Hid ((fun (en : Ending) (w' : World) => en = .returned (.string (sgS b)) ∧ Below w.heap.size w w') (Ending.returned (.string (sgS b))) wb) := ⟨rfl, hb.out⟩
  generalize (fun (en : Ending) (w' : World) => en = .returned (.string (sgS b)) ∧ Below w.heap.size w w') = Po at *
  clear HX hb
  cases b with
  | true =>
    have e1 : sgS true = ⟨#[45]⟩ := rfl
    rw [e1] at hfin
    go_enter Tryz.func45, Tryz.ntmps45
    go_wp2
    exact hfin.out
  | false =>
    have e1 : sgS false = ⟨#[]⟩ := rfl
    rw [e1] at hfin
    go_enter Tryz.func45, Tryz.ntmps45
    go_wp2
    exact hfin.out
/-- the coefficient's text -/
def coefB (b : Bool) (l : List Nat) : ByteArray := if l = [] then ⟨#[48]⟩ else sgS b ++ mkB (wordL l)
theorem coefB_size (b : Bool) (l : List Nat) : (coefB b l).size ≤ 1 + l.length := by
  unfold coefB
  split
  · show 1 ≤ _; omega
  · rw [ByteArray.size_append, mkB_size]
    unfold wordL sgS
    rw [List.length_map]
    cases b
    · show 0 + _ ≤ _; omega
    · show 1 + _ ≤ _; omega
set_option maxRecDepth 100000 in
set_option maxHeartbeats 4000000 in
theorem coef_any (b : Bool) (l : List Nat) (hd : ∀ d ∈ l, d ≤ 9) (hl : l.length ≤ 100000) (a : Option Addr) (c : Nat) (e : Int) (w : World) (hr : Ib w a l) : Calls Tryz.prog 19 #[.agg (nvl b a l.length c e).toArray] w (fun en w' => en = .returned (.string (coefB b l)) ∧ Below w.heap.size w w') := by
  obtain ⟨N, wb, hN, hwb, HX, hb⟩ := dbox w b a l.length c e
  obtain ⟨c0, c1, c2⟩ := HX.out wb (Below.refl _ _)
  obtain ⟨e0, e1, e2⟩ := HX.out wb.drew (Below.refl _ _).drew
  have hbd : Hid (Below wb.heap.size wb wb.drew) := (Below.refl _ wb).drew
  have HS := Lib.hid (fun V => rsign_any b a l.length c e V)
  have HWd : Hid (∀ V, Below wb.heap.size wb V → Calls Tryz.prog 46 #[.slice a l.length c] V (fun en w' => en = .returned (.string (mkB (wordL l))) ∧ Below V.heap.size V w')) := fun V h => word_any l hd hl a c V ((hr.go hb.out).go h)
  have HF : Hid (∀ t w', coefB b l = t → Below wb.heap.size wb w' → (fun (en : Ending) (w' : World) => en = .returned (.string (coefB b l)) ∧ Below w.heap.size w w') (Ending.returned (.string t)) w') := fun t w' h g => ⟨by rw [h], hb.out.trans (g.mono hb.out.size)⟩
  generalize (fun (en : Ending) (w' : World) => en = .returned (.string (coefB b l)) ∧ Below w.heap.size w w') = Po at *
  unfold coefB at HF
  have hz : (mkB (wordL l)).size = l.length := by rw [mkB_size]; unfold wordL; rw [List.length_map]
  have hz2 : (sgS b).size ≤ 1 := by cases b <;> decide
  by_cases h0 : l = []
  · have hfin := Lib.hid (HF.out ⟨#[48]⟩ wb (if_pos h0) (Below.refl _ _))
    have hl0 : l.length = 0 := by rw [h0]; rfl
    clear HF HS HWd h0 hb hr hd
    rw [hl0] at c1 e1 hwb
    rw [hl0]
    clear HX hl0 hz hz2
    go_enter Tryz.func19, Tryz.ntmps19
    go_wp2
    exact hfin.out
  · have hlp := List.length_pos_iff.2 h0
    have HF2 := Lib.hid (fun w' g => HF.out _ w' (if_neg h0) g)
    have l1 : (9223372036854775807 < (sgS b).size + (mkB (wordL l)).size) = False := eq_false (by omega)
    have hne : ((l.length : Int) == 0) = false := by rw [beq_eq_false_iff_ne]; omega
    clear HF h0 hb hr hd hz hz2
    generalize sgS b = S at *
    generalize mkB (wordL l) = D at *
    generalize l.length = n at *
    go_enter Tryz.func19, Tryz.ntmps19
    go_wp2_with fail
    clear hwb
    go_region_law (first
      | (go_simp; go_at_call 45; refine (HS.out _).mono ?_; rintro en w2 ⟨rfl, q2⟩; have hb2 := Lib.hid (hbd.out.trans (q2.mono (Nat.le_refl _))); clear q2; obtain ⟨y0, y1, y2⟩ := HX.out w2 hb2.out)
      | (go_simp; go_at_call 46; refine (HWd.out _ hb2.out).mono ?_; rintro en w3 ⟨rfl, q3⟩; have hb3 := Lib.hid (hb2.out.trans (q3.mono hb2.out.size)); clear q3; obtain ⟨z0, z1, z2⟩ := HX.out w3 hb3.out))
    all_goals
      have hfin := Lib.hid (HF2.out w3 hb3.out)
      first | (go_wp2; exact hfin.out) | (go_simp; go_wp2; exact hfin.out) | (go_simp; exact hfin.out)
set_option maxRecDepth 100000 in
set_option maxHeartbeats 4000000 in
theorem rshow_any (b : Bool) (l : List Nat) (hd : ∀ d ∈ l, d ≤ 9) (hl : l.length ≤ 100000) (a : Option Addr) (c : Nat) (e : Int) (he1 : -100000000 ≤ e) (he2 : e ≤ 100000000) (w : World) (hr : Ib w a l) : Calls Tryz.prog 15 #[.agg (nvl b a l.length c e).toArray] w (fun en w' => en = .returned (.string (coefB b l ++ ⟨#[101]⟩ ++ mkB (T e))) ∧ Below w.heap.size w w') := by
  obtain ⟨N, wb, hN, hwb, HX, hb⟩ := dbox w b a l.length c e
  obtain ⟨c0, c1, c2⟩ := HX.out wb (Below.refl _ _)
  obtain ⟨e0, e1, e2⟩ := HX.out wb.drew (Below.refl _ _).drew
  have hbd : Hid (Below wb.heap.size wb wb.drew) := (Below.refl _ wb).drew
  have HS : Hid (∀ V, Below wb.heap.size wb V → Calls Tryz.prog 19 #[.agg (nvl b a l.length c e).toArray] V (fun en w' => en = .returned (.string (coefB b l)) ∧ Below V.heap.size V w')) := fun V h => coef_any b l hd hl a c e V ((hr.go hb.out).go h)
  have HNm := Lib.hid (fun V => rnum_any e he1 he2 V)
  have HF : Hid (∀ w', Below wb.heap.size wb w' → (fun (en : Ending) (w' : World) => en = .returned (.string (coefB b l ++ ⟨#[101]⟩ ++ mkB (T e))) ∧ Below w.heap.size w w') (Ending.returned (.string (coefB b l ++ ⟨#[101]⟩ ++ mkB (T e)))) w') := fun w' g => ⟨rfl, hb.out.trans (g.mono hb.out.size)⟩
  generalize (fun (en : Ending) (w' : World) => en = .returned (.string (coefB b l ++ ⟨#[101]⟩ ++ mkB (T e))) ∧ Below w.heap.size w w') = Po at *
  have hz1 := coefB_size b l
  have hz2 : (mkB (T e)).size ≤ 100 := by
    have h3 := T_len e
    have h4 : (body 10 e.natAbs).length ≤ 9 := body_len _ _ ((E_len_le 10 _ 9 (by omega)).2 (by omega)) (by omega)
    rw [mkB_size]; omega
  generalize coefB b l = S at *
  generalize mkB (T e) = D at *
  generalize l.length = n at *
  have l1 : (9223372036854775807 < S.size + 1) = False := eq_false (by omega)
  have l2 : (9223372036854775807 < S.size + 1 + D.size) = False := eq_false (by omega)
  clear hb hr hd
  go_enter Tryz.func15, Tryz.ntmps15
  go_wp2_with fail
  clear hwb
  go_region_law (first
    | (go_simp; go_at_call 19; refine (HS.out _ hbd.out).mono ?_; rintro en w2 ⟨rfl, q2⟩; have hb2 := Lib.hid (hbd.out.trans (q2.mono (Nat.le_refl _))); clear q2; obtain ⟨y0, y1, y2⟩ := HX.out w2 hb2.out)
    | (go_simp; go_at_call 42; refine (HNm.out _).mono ?_; rintro en w3 ⟨rfl, q3⟩; have hb3 := Lib.hid (hb2.out.trans (q3.mono hb2.out.size)); clear q3; obtain ⟨z0, z1, z2⟩ := HX.out w3 hb3.out))
  all_goals
    have hfin := Lib.hid (HF.out w3 hb3.out)
    first | (go_wp2; exact hfin.out) | (go_simp; go_wp2; exact hfin.out) | (go_simp; exact hfin.out)
/-- the error of the limits -/
def limF (n : Nat) (e : Int) : Int := if 400 < n then 6 else if 2000 < e ∨ e < -2000 then 2 else 0
set_option maxRecDepth 100000 in
set_option maxHeartbeats 1000000 in
theorem limit_any (b : Bool) (a : Option Addr) (n c : Nat) (e : Int) (hn : n ≤ 100000) (w : World) : Calls Tryz.prog 14 #[.agg (nvl b a n c e).toArray] w (fun en w' => en = .returned (.int .i64 (limF n e)) ∧ Below w.heap.size w w') := by
  obtain ⟨N, wb, hN, hwb, HX, hb⟩ := dbox w b a n c e
  obtain ⟨c0, c1, c2⟩ := HX.out wb (Below.refl _ _)
  have HF : Hid (∀ t, limF n e = t → (fun (en : Ending) (w' : World) => en = .returned (.int .i64 (limF n e)) ∧ Below w.heap.size w w') (Ending.returned (.int .i64 t)) wb) := fun t h => ⟨by rw [h], hb.out⟩
  generalize (fun (en : Ending) (w' : World) => en = .returned (.int .i64 (limF n e)) ∧ Below w.heap.size w w') = Po at *
  unfold limF at HF
  clear HX hb
  by_cases h1 : 400 < n
  · have hfin := Lib.hid (HF.out 6 (if_pos h1))
    have q1 : (400 : Int) < (n : Int) := by omega
    clear HF
    go_enter Tryz.func14, Tryz.ntmps14
    go_wp2
    exact hfin.out
  · have q1 : ¬ (400 : Int) < (n : Int) := by omega
    rw [if_neg h1] at HF
    by_cases h2 : 2000 < e
    · have hfin := Lib.hid (HF.out 2 (if_pos (.inl h2)))
      clear HF
      go_enter Tryz.func14, Tryz.ntmps14
      go_wp2
      exact hfin.out
    · by_cases h3 : e < -2000
      · have hfin := Lib.hid (HF.out 2 (if_pos (.inr h3)))
        clear HF
        go_enter Tryz.func14, Tryz.ntmps14
        go_wp2
        exact hfin.out
      · have hfin := Lib.hid (HF.out 0 (if_neg (by omega)))
        clear HF
        go_enter Tryz.func14, Tryz.ntmps14
        go_wp2
        exact hfin.out
end Go.Proofs.YtpankmaljafnnaaGreatDoor
