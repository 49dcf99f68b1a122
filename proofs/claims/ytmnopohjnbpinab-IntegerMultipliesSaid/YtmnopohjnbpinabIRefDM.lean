/-
  Helper: the walk of the reference's DivMod.
-/
import Derived.Test.YtmnopohjnbpinabIRefDM0
import Derived.Test.YtmnopohjnbpinabIRefAdd
import Derived.Test.YtmnopohjnbpinabINumD0
import Derived.Deep.Cut
namespace Go.Proofs.Ytmnopohjnbpinab
open Go.RowKit
set_option linter.unusedVariables false

def R3 (w : World) (b0 b1 : Bool) (v0 v1 : Value) : World := (R2 w b0 b1 v0 v1).alloc (.cells #[.bool false, .slice none 0 0] 28)
theorem R3_size (w : World) (b0 b1 : Bool) (v0 v1 : Value) : (R3 w b0 b1 v0 v1).heap.size = w.heap.size + 1 + 1 + 1 + 1 := by unfold R3; simp [R2_size]
theorem R3_below (w : World) (b0 b1 : Bool) (v0 v1 : Value) : Below w.heap.size w (R3 w b0 b1 v0 v1) := (R2_below w b0 b1 v0 v1).alloc (by rw [R2_size]; omega) _
theorem R3_over (w : World) (b0 b1 : Bool) (v0 v1 : Value) : Below (R2 w b0 b1 v0 v1).heap.size (R2 w b0 b1 v0 v1) (R3 w b0 b1 v0 v1) := (Below.refl _ _).alloc (Nat.le_refl _) _
theorem R3_S2 (w : World) (b0 b1 : Bool) (v0 v1 : Value) (W : World) (h : Below (R3 w b0 b1 v0 v1).heap.size (R3 w b0 b1 v0 v1) W) : S2 W w.heap.size b0 b1 v0 v1 W := by
  obtain ⟨h1, h2, h3, h4, h9⟩ := ((S2.startR w b0 b1 v0 v1).keep (by rw [R2_size]; omega) (R3_over w b0 b1 v0 v1)).keep (by rw [R2_size]; omega) h
  exact ⟨h1, h2, h3, h4, Below.refl _ _⟩
theorem R3_blocks (w : World) (b0 b1 : Bool) (v0 v1 : Value) (w' : World) (h : Below (R3 w b0 b1 v0 v1).heap.size (R3 w b0 b1 v0 v1) w') :
    w'.heap[w.heap.size + 1 + 1]? = some (.cells #[.bool false, .slice none 0 0] 28) ∧ w'.heap[w.heap.size + 1 + 1 + 1]? = some (.cells #[.bool false, .slice none 0 0] 28) := by
  have e := heap_alloc_new (R2 w b0 b1 v0 v1) (.cells #[.bool false, .slice none 0 0] 28)
  rw [R2_size] at e
  refine ⟨(h.block _ (by rw [R3_size]; omega)).trans (((R3_over w b0 b1 v0 v1).block _ (by rw [R2_size]; omega)).trans (R2_blocks w b0 b1 v0 v1).2.2), (h.block _ (by rw [R3_size]; omega)).trans e⟩
theorem R3_res (w : World) (b0 b1 : Bool) (v0 v1 : Value) (w' : World) (h : Below (R3 w b0 b1 v0 v1).heap.size (R3 w b0 b1 v0 v1) w') :
    w'.cell? ⟨w.heap.size + 1 + 1, 0, none⟩ = some (.bool false) ∧ w'.cell? ⟨w.heap.size + 1 + 1, 1, none⟩ = some (.slice none 0 0) ∧ w'.frozen? ⟨w.heap.size + 1 + 1, 0, none⟩ = false ∧ w'.frozen? ⟨w.heap.size + 1 + 1, 1, none⟩ = false ∧
    w'.cell? ⟨w.heap.size + 1 + 1 + 1, 0, none⟩ = some (.bool false) ∧ w'.cell? ⟨w.heap.size + 1 + 1 + 1, 1, none⟩ = some (.slice none 0 0) ∧ w'.frozen? ⟨w.heap.size + 1 + 1 + 1, 0, none⟩ = false ∧ w'.frozen? ⟨w.heap.size + 1 + 1 + 1, 1, none⟩ = false := by
  obtain ⟨g2, g3⟩ := R3_blocks w b0 b1 v0 v1 w' h
  refine ⟨?_, ?_, ?_, ?_, ?_, ?_, ?_, ?_⟩
  · simp [World.cell?, g2]
  · simp [World.cell?, g2]
  · simp [World.frozen?, g2]
  · simp [World.frozen?, g2]
  · simp [World.cell?, g3]
  · simp [World.cell?, g3]
  · simp [World.frozen?, g3]
  · simp [World.frozen?, g3]

/-- two integers come back, by value, out of their boxes -/
theorem divNP_R {q r : Int} {w w4 : World} {qc rc : Nat} {b0 b1 : Bool} {v0 v1 : Value} {qa ra : Option Addr} (hall : Below (R3 w b0 b1 v0 v1).heap.size (R3 w b0 b1 v0 v1) w4)
    (h1 : Rb w4 qa (E 10 q.natAbs)) (h2 : (E 10 q.natAbs).length ≤ qc) (h5 : Rb w4 ra (E 10 r.natAbs)) (h6 : (E 10 r.natAbs).length ≤ rc) (u0 u1 u2 u3 : Value) : DivNP q r w (.returned (.tuple #[.agg #[.bool (neg q), .slice qa (E 10 q.natAbs).length qc], .agg #[.bool (neg r), .slice ra (E 10 r.natAbs).length rc]])) ((((w4.setCell ⟨w.heap.size + 1 + 1, 0, none⟩ u0).setCell ⟨w.heap.size + 1 + 1, 1, none⟩ u1).setCell ⟨w.heap.size + 1 + 1 + 1, 0, none⟩ u2).setCell ⟨w.heap.size + 1 + 1 + 1, 1, none⟩ u3) := by
  obtain ⟨g2, g3⟩ := R3_blocks w b0 b1 v0 v1 w4 hall
  have p2 := heap_put2 w4 (w.heap.size + 1 + 1) u0 u1
  have p3 := heap_put2 ((w4.setCell ⟨w.heap.size + 1 + 1, 0, none⟩ u0).setCell ⟨w.heap.size + 1 + 1, 1, none⟩ u1) (w.heap.size + 1 + 1 + 1) u2 u3
  have g3' := (p2.2 (w.heap.size + 1 + 1 + 1) (by omega)).trans g3
  have key : ∀ (a : Option Addr) (l : List UInt8), Rb w4 a l → Rb ((((w4.setCell ⟨w.heap.size + 1 + 1, 0, none⟩ u0).setCell ⟨w.heap.size + 1 + 1, 1, none⟩ u1).setCell ⟨w.heap.size + 1 + 1 + 1, 0, none⟩ u2).setCell ⟨w.heap.size + 1 + 1 + 1, 1, none⟩ u3) a l := fun a l h =>
    (h.boxed _ g2 p2.1 p2.2).boxed _ g3' p3.1 p3.2
  have hw4 : Below w.heap.size w w4 := (R3_below w b0 b1 v0 v1).trans (hall.mono (by rw [R3_size]; omega))
  exact ⟨qa, qc, ra, rc, rfl, key _ _ h1, h2, key _ _ h5, h6, (((hw4.setCell (p := ⟨w.heap.size + 1 + 1, 0, none⟩) (by show _ ≤ w.heap.size + 1 + 1; omega) _).setCell (p := ⟨w.heap.size + 1 + 1, 1, none⟩) (by show _ ≤ w.heap.size + 1 + 1; omega) _).setCell (p := ⟨w.heap.size + 1 + 1 + 1, 0, none⟩) (by show _ ≤ w.heap.size + 1 + 1 + 1; omega) _).setCell (p := ⟨w.heap.size + 1 + 1 + 1, 1, none⟩) (by show _ ≤ w.heap.size + 1 + 1 + 1; omega) _⟩

/-- the state of the outer loop: the digits from j on are divided -/
def DmS (p : List UInt8) (m j t : Nat) (R : List UInt8) : Prop := t = vb 10 (p.drop j) % m ∧ R.length = p.length ∧ Dg 10 R ∧ vb 10 (R.drop j) = vb 10 (p.drop j) / m
theorem dms_start (p : List UInt8) (m : Nat) : DmS p m p.length 0 (List.replicate p.length 0) := by
  refine ⟨?_, by simp, dg_zeros 10 _ (by omega), ?_⟩
  · rw [List.drop_eq_nil_of_le (Nat.le_refl _)]; simp [vb]
  · rw [List.drop_eq_nil_of_le (by simp), List.drop_eq_nil_of_le (Nat.le_refl _)]; simp [vb]
theorem dms_next (p : List UInt8) (m i t t' c : Nat) (R : List UInt8) (hm : 0 < m) (hg : Dg 10 p) (hi : i < p.length) (h : DmS p m (i + 1) t R) (hc : t' + m * c = 10 * t + (p.getD i 0).toNat) (ht : t' < m) : DmS p m i t' (R.set i (UInt8.ofNat c)) ∧ c ≤ 9 := by
  obtain ⟨h1, h2, h3, h4⟩ := h
  obtain ⟨d1, d2, d3⟩ := divided_next p i m hm hg hi
  rw [← h1, ← hc] at d1 d2
  rw [← h1, ← hc] at d3
  have e1 : (t' + m * c) % m = t' := by rw [Nat.add_mul_mod_self_left, Nat.mod_eq_of_lt ht]
  have e2 : (t' + m * c) / m = c := by rw [Nat.add_mul_div_left _ _ hm, Nat.div_eq_of_lt ht]; omega
  have hc9 : c ≤ 9 := by
    have : m * c < m * 10 := by omega
    have := Nat.lt_of_mul_lt_mul_left this
    omega
  refine ⟨⟨by rw [← d2, e1], by rw [List.length_set]; exact h2, dg_set 10 R h3 i _ (by rw [toNat_ofNat _ (by omega)]; omega), ?_⟩, hc9⟩
  have := d3 R h2 h4
  rw [e2] at this; exact this
theorem own_below {w w' : World} {B e size n : Nat} {v : Value} {xs : List Value} (h : w.ownsRow B e size v n xs) (hb : Below w.heap.size w w') : w'.ownsRow B e size v n xs := by
  rcases h.2 with h2 | ⟨g, cap, cur, he, hB, hg, h3⟩
  · exact ⟨h.1, .inl h2⟩
  · exact ⟨h.1, .inr ⟨g, cap, cur, he, hB, (hb.block g (Array.getElem?_eq_some_iff.1 hg).1).trans hg, h3⟩⟩
theorem rset_set (R : List UInt8) (i : Nat) (a b : UInt8) : (R.set i a).set i b = R.set i b := by rw [List.set_set]


set_option maxRecDepth 100000 in
set_option maxHeartbeats 4000000 in
theorem refDivMod_any (x y : Int) (hy0 : y ≠ 0) (ax ay : Option Addr) (cx cy : Nat) (w : World) (hsx : (E 10 x.natAbs).length ≤ 400) (hsy : (E 10 y.natAbs).length ≤ 400) (hrx : Rb w ax (E 10 x.natAbs)) (hry : Rb w ay (E 10 y.natAbs)) :
    Calls Try.prog 29 #[.agg #[.bool (neg x), .slice ax (E 10 x.natAbs).length cx], .agg #[.bool (neg y), .slice ay (E 10 y.natAbs).length cy]] w (DivNP (qI x y) (rI x y) w) := by
  have HF := Lib.hid (fun (w4 : World) (qa ra : Option Addr) (qc rc : Nat) h h1 h2 h5 h6 u0 u1 u2 u3 => divNP_R (q := qI x y) (r := rI x y) (w := w) (w4 := w4) (qc := qc) (rc := rc) (b0 := neg x) (b1 := neg y) (v0 := (.slice ax (E 10 x.natAbs).length cx)) (v1 := (.slice ay (E 10 y.natAbs).length cy)) (qa := qa) (ra := ra) h h1 h2 h5 h6 u0 u1 u2 u3)
  have HRES := Lib.hid (fun w' h => R3_res w (neg x) (neg y) (.slice ax (E 10 x.natAbs).length cx) (.slice ay (E 10 y.natAbs).length cy) w' h)
  have HSZ := Lib.hid (R3_size w (neg x) (neg y) (.slice ax (E 10 x.natAbs).length cx) (.slice ay (E 10 y.natAbs).length cy))
  have HC : Hid (∀ W, Below (R3 w (neg x) (neg y) (.slice ax (E 10 x.natAbs).length cx) (.slice ay (E 10 y.natAbs).length cy)).heap.size (R3 w (neg x) (neg y) (.slice ax (E 10 x.natAbs).length cx) (.slice ay (E 10 y.natAbs).length cy)) W → (W.cell? ⟨w.heap.size, 0, none⟩ = some (.bool (neg x)) ∧ W.cell? ⟨w.heap.size, 1, none⟩ = some (.slice ax (E 10 x.natAbs).length cx) ∧ W.cell? ⟨w.heap.size + 1, 0, none⟩ = some (.bool (neg y)) ∧ W.cell? ⟨w.heap.size + 1, 1, none⟩ = some (.slice ay (E 10 y.natAbs).length cy)) ∧ Rb W ax (E 10 x.natAbs) ∧ Rb W ay (E 10 y.natAbs)) := Lib.hid fun W h => by
    obtain ⟨h1, h2, h3, h4, h9⟩ := R3_S2 w (neg x) (neg y) (.slice ax (E 10 x.natAbs).length cx) (.slice ay (E 10 y.natAbs).length cy) W h
    exact ⟨⟨h1, h2, h3, h4⟩, hrx.go ((R3_below w _ _ _ _).trans (h.mono (by rw [R3_size]; omega))), hry.go ((R3_below w _ _ _ _).trans (h.mono (by rw [R3_size]; omega)))⟩
  have HG : Hid (Dg 10 (E 10 x.natAbs)) := dg_E 10 _ (by omega) (by omega)
  have HV : Hid (vb 10 (E 10 x.natAbs) = x.natAbs) := vb_E 10 _ (by omega) (by omega)
  have hm0 : 0 < y.natAbs := by omega
  have HW : Hid ((R3 w (neg x) (neg y) (.slice ax (E 10 x.natAbs).length cx) (.slice ay (E 10 y.natAbs).length cy)) = (((w.alloc (.cells #[.bool (neg x), .slice ax (E 10 x.natAbs).length cx] 28)).alloc (.cells #[.bool (neg y), .slice ay (E 10 y.natAbs).length cy] 28)).alloc (.cells #[.bool false, .slice none 0 0] 28)).alloc (.cells #[.bool false, .slice none 0 0] 28)) := rfl
  -- the quotient's and the remainder's parts
  have HQ : Hid ((neg x = neg y → qI x y = zi false (x.natAbs / y.natAbs) ∧ rI x y = zi (neg y) (x.natAbs % y.natAbs)) ∧ (¬ neg x = neg y → x.natAbs % y.natAbs = 0 → qI x y = zi true (x.natAbs / y.natAbs) ∧ rI x y = 0) ∧ (¬ neg x = neg y → x.natAbs % y.natAbs ≠ 0 → qI x y = zi true (x.natAbs / y.natAbs + 1) ∧ rI x y = zi (neg y) (y.natAbs - x.natAbs % y.natAbs))) := Lib.hid (by
    refine ⟨fun h => ?_, fun h h0 => ?_, fun h h0 => ?_⟩
    · unfold qI rI QN RN
      rw [if_pos (.inl h), if_pos (.inl h), h]
      simp
    · unfold qI rI QN RN
      rw [if_pos (.inr h0), if_pos (.inr h0), h0]
      have hn : (neg x != neg y) = true := by simpa using h
      rw [hn]
      exact ⟨rfl, by unfold zi; split <;> rfl⟩
    · have hc : ¬ (neg x = neg y ∨ x.natAbs % y.natAbs = 0) := fun g => by rcases g with g | g; exact h g; exact h0 g
      unfold qI rI QN RN
      rw [if_neg hc, if_neg hc]
      have hn : (neg x != neg y) = true := by simpa using h
      rw [hn]; exact ⟨rfl, rfl⟩)
  clear hrx hry hy0
  generalize hW0 : (R3 w (neg x) (neg y) (.slice ax (E 10 x.natAbs).length cx) (.slice ay (E 10 y.natAbs).length cy)) = W0 at *
  clear hW0
  generalize hPo : DivNP (qI x y) (rI x y) w = Po at *
  clear hPo
  generalize qI x y = Qi at *
  generalize rI x y = Ri at *
  generalize neg x = bx at *
  generalize neg y = by' at *
  generalize hX : x.natAbs = X at *
  generalize hm : y.natAbs = m at *
  clear hX hm
  generalize E 10 X = p at *
  generalize hlp : p.length = lp at *
  generalize hlm : (E 10 m).length = lm at *
  have hlph := Lib.hid hlp
  have hlmh := Lib.hid hlm
  clear hlp hlm
  go_enter Try.func29, Try.ntmps29
  go_upto_region 2 with fail
  rw [← HW.out]
  obtain ⟨⟨c0, c1, c2, c3⟩, _, _⟩ := HC.out W0 (Below.refl _ _)
  go_wp2_with (at_make; refine make_bytes _ rfl _ _ 26 rfl Try.underlying26 _ _ lp rfl rfl ?m1 ?m2 ?m3 ?_)
  case m1 => rfl
  case m2 => rfl
  case m3 => omega
  intro w1 hrow hb1
  clear c0 c1 c2 c3
  generalize hgg : W0.heap.size = g at *
  have hgh := Lib.hid hgg
  have HROW := Lib.hid hrow
  have HB1 := Lib.hid hb1
  clear hgg hrow hb1
  obtain ⟨⟨c0, c1, c2, c3⟩, _, _⟩ := HC.out w1 HB1.out
  go_wp2_with fail
  go_loopw [6, 8] (fun v i wr => ∃ (j t : Nat) (R : List UInt8), j ≤ lp ∧ i = .int .i64 ((j : Int) - 1) ∧ Hid (DmS p m j t R ∧ ∀ k, k < j → R.getD k 0 = 0) ∧ Hid (wr.ownsRow (g + 1) 5 1 v (E 10 t).length (bytes (E 10 t))) ∧ Hid (Row wr g 5 R) ∧ Hid (Below g W0 wr)) (fun _ i _ => (intOf i + 1).toNat)
  case atStart =>
    refine ⟨lp, 0, List.replicate lp 0, Nat.le_refl _, rfl, Lib.hid ⟨by rw [← hlph.out]; exact dms_start p m, fun k _ => ?_⟩, Lib.hid (World.ownsRow_nil _ _ _ _), HROW, HB1⟩
    rw [List.getD_eq_getElem?_getD, List.getElem?_replicate]
    split <;> rfl
  case round =>
    clear HROW HB1 c0 c1 c2 c3
    obtain ⟨j, t, R, hj, rfl, HS, hown, hrow, hbel⟩ := hrel
    obtain ⟨⟨c0, c1, c2, c3⟩, hra, hrb⟩ := HC.out _ hbel.out
    by_cases hj0 : j = 0
    · subst hj0
      obtain ⟨⟨he1, he2, he3, he4⟩, _⟩ := HS.out
      rw [List.drop_zero, HV.out] at he1
      rw [List.drop_zero, List.drop_zero, HV.out] at he4
      rw [hlph.out] at he2
      obtain ⟨ra, rc, rfl, hsl, hrc, hrs⟩ := rb_of_row hown.out
      have htm : t < m := by rw [he1]; exact Nat.mod_lt _ hm0
      have hlt : (E 10 t).length ≤ 400 := Nat.le_trans (E_len_mono 10 _ _ (by omega) (Nat.le_of_lt htm)) (by have := hlmh.out; omega)
      have hg5 : g < wr.heap.size := (Array.getElem?_eq_some_iff.1 hrow.out).1
      have hN1 : Hid (w.heap.size + 1 + 1 < wr.heap.size) := Lib.hid (by have := HSZ.out; omega)
      have hS1 : wr.cell? ⟨w.heap.size, 0, none⟩ = some (.bool bx) ∧ wr.cell? ⟨w.heap.size, 1, none⟩ = some (.slice ax lp cx) ∧ wr.cell? ⟨w.heap.size + 1, 0, none⟩ = some (.bool by') ∧ wr.cell? ⟨w.heap.size + 1, 1, none⟩ = some (.slice ay lm cy) ∧ Below (w.heap.size + 1 + 1) wr wr := ⟨c0, c1, c2, c3, Below.refl _ _⟩
      have hallF : Hid (∀ w3 w4, Below wr.drew.heap.size wr.drew w3 → Below w3.heap.size w3 w4 → Below g W0 w4) := Lib.hid fun w3 w4 h3 h4 => (hbel.out.drew.trans (h3.mono (Nat.le_of_lt hg5))).trans (h4.mono (Nat.le_trans (Nat.le_of_lt hg5) h3.size))
      have hq0 := fun b => refSigned_any b R (some ⟨g, 0, none⟩) lp wr.drew (by omega) (by omega) (show Row wr.drew g 5 R from hrow.out).rb he3
      rw [he2, he4] at hq0
      have HSQ0 := Lib.hid hq0
      have hr0 := fun b w3 (h3 : Below wr.drew.heap.size wr.drew w3) => refSigned_any b (E 10 t) ra rc w3 (by omega) hrc ((show Rb wr.drew ra (E 10 t) from hrs).go h3) (dg_E 10 t (by omega) (by omega))
      rw [vb_E 10 t (by omega) (by omega)] at hr0
      have HSR0 := Lib.hid hr0
      by_cases hbb' : bx = by'
      · subst hbb'
        obtain ⟨hQ, hR⟩ := HQ.out.1 rfl
        rw [← he1] at hR
        have HSq : Hid (Calls Try.prog 44 #[.slice (some ⟨g, 0, none⟩) lp lp, .bool false] wr.drew (NumP Qi wr.drew)) := Lib.hid (by rw [hQ]; exact HSQ0.out false)
        have HSr : Hid (∀ w3, Below wr.drew.heap.size wr.drew w3 → Calls Try.prog 44 #[.slice ra (E 10 t).length rc, .bool bx] w3 (NumP Ri w3)) := Lib.hid (fun w3 h3 => by rw [hR]; exact HSR0.out bx w3 h3)
        clear hq0 hr0 HSQ0 HSR0 hrs hrc hsl hlt htm hg5 he1 he2 he3 he4 HS hown hrow hbel hra hrb hQ hR HQ
        generalize (E 10 t).length = lr at *
        go_wp2_with fail
        clear c0 c1 c2 c3
        go_region_held3 (fun w' => w'.cell? ⟨w.heap.size, 0, none⟩ = some (.bool bx) ∧ w'.cell? ⟨w.heap.size, 1, none⟩ = some (.slice ax lp cx) ∧ w'.cell? ⟨w.heap.size + 1, 0, none⟩ = some (.bool bx) ∧ w'.cell? ⟨w.heap.size + 1, 1, none⟩ = some (.slice ay lm cy) ∧ Below (w.heap.size + 1 + 1) wr w')
          (first | (with_reducible assumption) | (with_reducible exact S2.drewC (by assumption)) | (with_reducible exact S2.putC (by assumption)) | (with_reducible exact S2.put3C (by assumption)) | (with_reducible exact S2.keepC (by assumption) hN1.out (by assumption)))
          (first | (go_at_call 44; (with_reducible refine HSq.out.mono ?_); rintro e w3 ⟨qa, qc, rfl, hq1, hq2, hbb⟩) | (go_at_call 44; (with_reducible refine (HSr.out _ (by assumption)).mono ?_); rintro e w4 ⟨ra4, rc4, rfl, hr1, hr2, hbb4⟩; obtain ⟨r0, r1, r2, r3, r4, r5, r6, r7⟩ := HRES.out _ (hallF.out _ _ hbb hbb4)))
        go_wp2
        refine bodyPost_ret (v := .tuple #[.agg #[.bool (neg Qi), .slice qa (E 10 Qi.natAbs).length qc], .agg #[.bool (neg Ri), .slice ra4 (E 10 Ri.natAbs).length rc4]]) (by simp [results, Try.results29, go_sem, r0, r1, r4, r5]) rfl ?_
        exact HF.out _ _ _ _ _ (hallF.out _ _ hbb hbb4) (hq1.go hbb4) hq2 hr1 hr2 _ _ _ _
      · have hd : (bx == by') = false := by simpa using hbb'
        by_cases ht0 : t = 0
        · subst ht0
          obtain ⟨hQ, hR⟩ := HQ.out.2.1 hbb' he1.symm
          have hqz := refSigned_any true R (some ⟨g, 0, none⟩) lp wr (by omega) (by omega) hrow.out.rb he3
          rw [he2, he4, ← hQ] at hqz
          have HSq := Lib.hid hqz
          rw [show (E 10 0).length = 0 from rfl] at *
          have hallZ : Hid (∀ w3, Below wr.heap.size wr w3 → Below g W0 w3) := Lib.hid fun w3 h3 => hbel.out.trans (h3.mono (Nat.le_of_lt hg5))
          have HFZ : Hid (∀ w3 qa qc, Below wr.heap.size wr w3 → Rb w3 qa (E 10 Qi.natAbs) → (E 10 Qi.natAbs).length ≤ qc → ∀ u0 u1 u2 u3, Po (.returned (.tuple #[.agg #[.bool (neg Qi), .slice qa (E 10 Qi.natAbs).length qc], .agg #[.bool false, .slice none 0 0]])) ((((w3.setCell ⟨w.heap.size + 1 + 1, 0, none⟩ u0).setCell ⟨w.heap.size + 1 + 1, 1, none⟩ u1).setCell ⟨w.heap.size + 1 + 1 + 1, 0, none⟩ u2).setCell ⟨w.heap.size + 1 + 1 + 1, 1, none⟩ u3)) := Lib.hid (fun w3 qa qc h3 h1 h2 u0 u1 u2 u3 => by
            have h := HF.out w3 qa none qc 0 (hallZ.out _ h3) h1 h2 (by rw [hR]; exact .inl rfl) (by rw [hR]; exact Nat.le_refl _) u0 u1 u2 u3
            rw [hR] at h; exact h)
          clear hq0 hr0 HSQ0 HSR0 hrs hrc hsl hlt htm hg5 he1 he2 he3 he4 HS hown hrow hbel hra hrb hQ hR HQ HF hqz
          go_wp2_with fail
          clear c0 c1 c2 c3
          refine HSq.out.mono ?_
          rintro e w3 ⟨qa, qc, rfl, hq1, hq2, hbb⟩
          obtain ⟨r0, r1, r2, r3, r4, r5, r6, r7⟩ := HRES.out _ (hallZ.out _ hbb)
          go_wp2
          refine bodyPost_ret (v := .tuple #[.agg #[.bool (neg Qi), .slice qa (E 10 Qi.natAbs).length qc], .agg #[.bool false, .slice none 0 0]]) (by simp [results, Try.results29, go_sem, r0, r1, r4, r5]) rfl ?_
          exact HFZ.out _ _ _ hbb hq1 hq2 _ _ _ _
        · obtain ⟨hQ, hR⟩ := HQ.out.2.2 hbb' (by rw [← he1]; exact ht0)
          rw [← he1] at hR
          have hlp0 : 0 < (E 10 t).length := len_pos _ ht0
          have hA : Below wr.heap.size wr (wr.alloc (.cells #[.int .u8 1] 5)).drew := ((Below.refl _ _).alloc (Nat.le_refl _) _).drew
          have hpl := refPlus_gen R [1] (X / m) 1 he3 (fun c hc => by simp at hc; subst hc; decide) he4 rfl (some ⟨g, 0, none⟩) (some ⟨wr.heap.size, 0, none⟩) lp 1 ((wr.alloc (.cells #[.int .u8 1] 5)).drew) (hrow.out.rb.go hA) (show Row (wr.alloc (.cells #[.int .u8 1] 5)).drew wr.heap.size 5 [1] from Row.new wr 5 [1]).rb (by omega) (by decide)
          rw [he2] at hpl
          have HPl := Lib.hid hpl
          have HS1 : Hid (∀ W l pa pc, Rb W pa l → l.length ≤ pc → Dg 10 l → vb 10 l = X / m + 1 → l.length ≤ 200000 → Calls Try.prog 44 #[.slice pa l.length pc, .bool true] W (NumP Qi W)) := Lib.hid fun W l pa pc h1 h2 h3 h4 h5 => by
            rw [hQ, ← h4]; exact refSigned_any true l pa pc W (by omega) h2 h1 h3
          have HBM : Hid (∀ W1 W2, Below (wr.alloc (.cells #[.int .u8 1] 5)).drew.heap.size (wr.alloc (.cells #[.int .u8 1] 5)).drew W1 → Below W1.heap.size W1 W2 → Below wr.heap.size wr W2) := Lib.hid fun W1 W2 h1 h2 => hA.trans ((h1.trans (h2.mono h1.size)).mono hA.size)
          have HMi : Hid (∀ W, Below wr.heap.size wr W → Calls Try.prog 57 #[.slice ay lm cy, .slice ra (E 10 t).length rc] W (CanP (m - t) W)) := Lib.hid fun W h => by
            have h2 := refMinus_any m t (Nat.le_of_lt htm) ay ra cy rc W (hrb.go h) (hrs.go h) (by have := hlmh.out; omega)
            rw [hlmh.out] at h2; exact h2
          have HS2 : Hid (∀ W a c, Rb W a (E 10 (m - t)) → (E 10 (m - t)).length ≤ c → Calls Try.prog 44 #[.slice a (E 10 (m - t)).length c, .bool by'] W (NumP Ri W)) := Lib.hid fun W a c h1 h2 => by
            have h3 := refSigned_any by' (E 10 (m - t)) a c W (Nat.le_trans (E_len_mono 10 _ _ (by omega) (Nat.sub_le m t)) (by have := hlmh.out; omega)) h2 h1 (dg_E 10 _ (by omega) (by omega))
            rw [vb_E 10 _ (by omega) (by omega), ← hR] at h3; exact h3
          have hallU : Hid (∀ W1 W2 W3 W4, Below (wr.alloc (.cells #[.int .u8 1] 5)).drew.heap.size (wr.alloc (.cells #[.int .u8 1] 5)).drew W1 → Below W1.heap.size W1 W2 → Below W2.heap.size W2 W3 → Below W3.heap.size W3 W4 → Below g W0 W4) := Lib.hid fun W1 W2 W3 W4 h1 h2 h3 h4 =>
            hbel.out.trans (((HBM.out W1 W2 h1 h2).trans ((h3.trans (h4.mono h3.size)).mono (HBM.out W1 W2 h1 h2).size)).mono (Nat.le_of_lt hg5))
          clear hq0 hr0 HSQ0 HSR0 hrs hrc hsl hlt htm hg5 he1 he2 he3 he4 HS hown hrow hbel hra hrb hQ hR HQ hpl hA hallF ht0
          generalize (E 10 t).length = lr at *
          go_wp2_with fail
          clear c0 c1 c2 c3
          go_region_held3 (fun w' => w'.cell? ⟨w.heap.size, 0, none⟩ = some (.bool bx) ∧ w'.cell? ⟨w.heap.size, 1, none⟩ = some (.slice ax lp cx) ∧ w'.cell? ⟨w.heap.size + 1, 0, none⟩ = some (.bool by') ∧ w'.cell? ⟨w.heap.size + 1, 1, none⟩ = some (.slice ay lm cy) ∧ Below (w.heap.size + 1 + 1) wr w')
            (first | (with_reducible assumption) | (with_reducible exact S2.drewC (by assumption)) | (with_reducible exact S2.putC (by assumption)) | (with_reducible exact S2.put3C (by assumption)) | (with_reducible exact S2.keepC (by assumption) hN1.out (by assumption)) | (with_reducible exact S2.keepC ((Below.refl _ _).alloc (Nat.le_refl _) _) hN1.out (by assumption)))
            (first | (go_at_call 56; refine HPl.out.mono ?_; rintro e W1 ⟨l, pa, pc, rfl, hp1, hp2, hp3, hp4, hp5, hb1⟩) | (go_at_call 44; (with_reducible refine (HS1.out _ _ _ _ hp1 hp2 hp3 hp4 hp5).mono ?_); rintro e W2 ⟨qa, qc, rfl, hq1, hq2, hb2⟩) | (go_at_call 57; (with_reducible refine (HMi.out _ (HBM.out _ _ hb1 hb2)).mono ?_); rintro e W3 ⟨ma, mc, rfl, hm1, hm2, hb3⟩) | (go_at_call 44; (with_reducible refine (HS2.out _ _ _ hm1 hm2).mono ?_); rintro e W4 ⟨ra4, rc4, rfl, hr1, hr2, hb4⟩; obtain ⟨r0, r1, r2, r3, r4, r5, r6, r7⟩ := HRES.out _ (hallU.out _ _ _ _ hb1 hb2 hb3 hb4)))
          go_wp2
          refine bodyPost_ret (v := .tuple #[.agg #[.bool (neg Qi), .slice qa (E 10 Qi.natAbs).length qc], .agg #[.bool (neg Ri), .slice ra4 (E 10 Ri.natAbs).length rc4]]) (by simp [results, Try.results29, go_sem, r0, r1, r4, r5]) rfl ?_
          exact HF.out _ _ _ _ _ (hallU.out _ _ _ _ hb1 hb2 hb3 hb4) ((hq1.go hb3).go hb4) hq2 hr1 hr2 _ _ _ _
    · obtain ⟨i, rfl⟩ : ∃ i, j = i + 1 := ⟨j - 1, by omega⟩
      rw [show ((i + 1 : Nat) : Int) - 1 = (i : Int) by omega]
      obtain ⟨b1, o1, rfl, _, d1⟩ := hra.at i (by have := hlph.out; omega)
      have hx10 := dg_getD 10 (by omega) p HG.out i
      have hii : (i : Int) < lp := by omega
      have htm : t < m := by rw [HS.out.1.1]; exact Nat.mod_lt _ hm0
      have hlt : (E 10 t).length ≤ 400 := Nat.le_trans (E_len_mono 10 _ _ (by omega) (Nat.le_of_lt htm)) (by have := hlmh.out; omega)
      obtain ⟨hcv, hcd⟩ := cons_E t (p.getD i 0) hx10
      have hcl : (p.getD i 0 :: E 10 t).length ≤ 1000000 := by simp; omega
      have hg5 : g < wr.heap.size := (Array.getElem?_eq_some_iff.1 hrow.out).1
      have HCV := Lib.hid hcv
      have HCD := Lib.hid hcd
      have HCL := Lib.hid hcl
      clear hcv hcd hcl hra hrb
      generalize hpi : p.getD i 0 = pc at *
      have hpih := Lib.hid hpi
      clear hpi
      go_wp2_with (at_builtin; refine prepend_byte rfl (.tmp 26) (.tmp 27) 26 rfl Try.underlying26 _ (g + 1) _ (E 10 t) pc rfl rfl hown.out wr (Below.refl _ _) ?c1 ?c2 ?c3 ?_)
      case c1 => exact hg5
      case c2 => exact Nat.le_trans hlt (by omega)
      case c3 => first | rfl | omega
      intro v' w2 hown2 hb2 hsp2
      clear hsp2
      have hT := Lib.hid (trimO (l := pc :: E 10 t) hown2 HCL.out HCD.out)
      rw [HCV.out] at hT
      have hbel2 := Lib.hid (hbel.out.trans (hb2.mono (Nat.le_succ g)))
      have hrow2 := Lib.hid (hrow.out.go hb2 (Nat.lt_succ_self g))
      have hg6 : g + 1 ≤ w2.heap.size := Nat.le_trans hg5 hb2.size
      have hX10 : 10 * t + pc.toNat < 10 * m := by omega
      have hpc9 : pc.toNat < 10 := hx10
      clear hown2 hb2 c0 c1 c2 c3 hbel hrow hown HCV HCD HCL d1 hg5
      obtain ⟨⟨c0, c1, c2, c3⟩, _, _⟩ := HC.out w2 hbel2.out
      go_wp2_with fail
      refine hT.out.mono ?_
      rintro e w3 ⟨rfl, v3, rfl, ho3⟩
      have HO3 := Lib.hid ho3
      clear ho3 hT
      have HSAME : Hid (R.set i (UInt8.ofNat 0) = R) := set_same R i (HS.out.2 i (Nat.lt_succ_self i))
      have HIL : Hid (i < R.length) := by have := HS.out.1.2.1; have := hlph.out; show i < R.length; omega
      generalize hXX : 10 * t + pc.toNat = XX at *
      have hXh := Lib.hid hXX
      clear hXX
      go_wp2_with fail
      clear c0 c1 c2 c3
      obtain ⟨wo, hwo⟩ : ∃ wo : World, wo = w2 := ⟨_, rfl⟩
      subst hwo
      go_loopg [6] 10 (fun gk v wr => ∃ (c s : Nat), Hid (c + gk = 10 ∧ s + m * c = XX) ∧ Hid (wr.ownsRow (g + 1) 5 1 v (E 10 s).length (bytes (E 10 s))) ∧ Hid (Row wr g 5 (R.set i (UInt8.ofNat c))) ∧ Hid (Below g W0 wr) ∧ g + 1 ≤ wr.heap.size)
      case atStart => exact ⟨0, XX, ⟨by omega, by omega⟩, HO3, by rw [HSAME.out]; exact hrow2, hbel2, hg6⟩
      case round =>
        clear HO3 hrow2 hbel2 hg6
        obtain ⟨c, s, HT, hown, hrow, hbel, hg7⟩ := hrel
        obtain ⟨⟨c0, c1, c2, c3⟩, _, hrb⟩ := HC.out _ hbel.out
        obtain ⟨ra, rc, rfl, hsl, hrc, hrs⟩ := rb_of_row hown.out
        have hsX : s ≤ XX := by have := HT.out.2; omega
        have hls : (E 10 s).length ≤ 402 := by
          refine Nat.le_trans (E_len_mono 10 _ _ (by omega) (Nat.le_of_lt (Nat.lt_of_le_of_lt hsX hX10))) ?_
          exact Nat.le_trans (E_len_ten m lm (Nat.le_of_eq hlmh.out)) (by omega)
        by_cases hge : m ≤ s
        · have hq := (refSize_any s m ra ay rc cy wr hrs hrb (by omega) (by have := hlmh.out; omega))
          rw [hlmh.out] at hq
          have HQ2 := Lib.hid hq
          have hc0 : 0 ≤ cmpN s m := by unfold cmpN; rw [if_neg (by omega)]; split <;> omega
          clear hq hrb hrs hsl hrc
          generalize cmpN s m = cc at *
          go_wp2_with fail
          refine HQ2.out.mono ?_
          rintro e w4 ⟨rfl, hb4⟩
          have hbel4 := Lib.hid (hbel.out.trans (hb4.mono (by omega)))
          clear c0 c1 c2 c3 HQ2
          obtain ⟨⟨c0, c1, c2, c3⟩, _, hrb⟩ := HC.out _ hbel4.out
          obtain ⟨ra', rc', hv', hsl, hrc, hrs⟩ := rb_of_row (hown.out)
          simp only [Value.slice.injEq] at hv'
          obtain ⟨rfl, _, rfl⟩ := hv'
          have hm2 := Lib.hid (refMinus_own s m hge ra ay rc cy w4 (hrs.go hb4) hrb (by omega))
          rw [hlmh.out] at hm2
          have hrow4 := Lib.hid (hrow.out.go hb4 (by omega))
          have hg8 : g + 1 ≤ w4.heap.size := Nat.le_trans hg7 hb4.size
          clear hrb hrs hsl hrc hb4 hbel hrow hown
          go_wp2_with fail
          refine hm2.out.mono ?_
          rintro e w5 ⟨v5, rfl, ho5, hb5⟩
          have ho6 := Lib.hid (own_weaken ho5 hg8)
          have hbel5 := Lib.hid (hbel4.out.trans (hb5.mono (by omega)))
          have hrow5 := Lib.hid (hrow4.out.go hb5 (by omega))
          have hg9 : g + 1 ≤ w5.heap.size := Nat.le_trans hg8 hb5.size
          clear ho5 hb5 hbel4 hrow4 c0 c1 c2 c3 hm2
          have hcell := hrow5.out.cell i (by rw [List.length_set]; exact HIL.out)
          have hc10 : c + 1 < 10 := by
            have h2 := HT.out.2
            have h3 : m * (c + 1) ≤ XX := by rw [Nat.mul_add]; omega
            have h4 := Nat.lt_of_le_of_lt h3 hX10
            rw [Nat.mul_comm 10 m] at h4
            exact Nat.lt_of_mul_lt_mul_left h4
          rw [set_getD R i _ HIL.out, toNat_ofNat c (by omega)] at hcell
          have hfree := hrow5.out.free i
          have HSUM : Hid (s - m + m * (c + 1) = XX) := by
            have h2 := HT.out.2
            show _ = _
            rw [Nat.mul_add]; omega
          have HROW2 : Hid (Row (w5.setCell ⟨g, i, none⟩ (.int .u8 ((c : Int) + 1))) g 5 (R.set i (UInt8.ofNat (c + 1)))) := Lib.hid (by
            rw [← rset_set R i (UInt8.ofNat c)]; exact hrow5.out.put i (c + 1) _ (by rw [List.length_set]; exact HIL.out) (by omega) (by push_cast; rfl))
          have HB6 := Lib.hid (hbel5.out.setCell (p := ⟨g, i, none⟩) (Nat.le_refl _) (.int .u8 ((c : Int) + 1)))
          have HO6 := Lib.hid (ownsRow_setCell_below (a := ⟨g, i, none⟩) ho6.out (Nat.lt_succ_self g) (.int .u8 ((c : Int) + 1)))
          have hid2 : (i : Int) < (lp : Int) := hii
          clear hbel5 ho6 hrow5
          go_wp2
          go_roundg (gk - 1)
          case measure => have := HT.out.1; omega
          case rel => exact ⟨c + 1, s - m, ⟨by have := HT.out.1; omega, HSUM.out⟩, HO6, HROW2, HB6, by rw [World.size_setCell]; exact hg9⟩
        · have hlt9 : s < m := by omega
          have hq := (refSize_any s m ra ay rc cy wr hrs hrb (by omega) (by have := hlmh.out; omega))
          rw [hlmh.out, show cmpN s m = -1 by unfold cmpN; rw [if_pos hlt9]] at hq
          have HQ2 := Lib.hid hq
          obtain ⟨hN, hc9⟩ := dms_next p m i t s c R hm0 HG.out (by have := hlph.out; omega) HS.out.1 (by rw [hpih.out, hXh.out]; exact HT.out.2) hlt9
          have HN := Lib.hid hN
          clear hN hq hrb hrs hsl hrc
          go_wp2_with fail
          refine HQ2.out.mono ?_
          rintro e w4 ⟨rfl, hb4⟩
          have hbel4 := Lib.hid (hbel.out.trans (hb4.mono (by omega)))
          have hrow4 := Lib.hid (hrow.out.go hb4 (by omega))
          have hown4 := Lib.hid (own_below hown.out hb4)
          clear c0 c1 c2 c3 HQ2 hb4 hbel hrow hown
          obtain ⟨⟨c0, c1, c2, c3⟩, _, _⟩ := HC.out _ hbel4.out
          go_wp2_with fail
          go_roundw
          case rel => exact ⟨i, s, R.set i (UInt8.ofNat c), by omega, by go_num, Lib.hid ⟨HN.out, fun k hk => by rw [List.getD_eq_getElem?_getD, List.getElem?_set_ne (by omega), ← List.getD_eq_getElem?_getD]; exact HS.out.2 k (by omega)⟩, hown4, hrow4, hbel4⟩
          case measure => simp [intOf]
end Go.Proofs.Ytmnopohjnbpinab
