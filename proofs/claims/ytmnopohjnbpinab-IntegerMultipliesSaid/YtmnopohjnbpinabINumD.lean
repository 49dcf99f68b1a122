/-
  Helper: the walk of number.divided.
-/
import Derived.Test.YtmnopohjnbpinabINumD0
namespace Go.Proofs.Ytmnopohjnbpinab
open Go.RowKit
set_option linter.unusedVariables false

set_option maxRecDepth 100000 in
set_option maxHeartbeats 1000000 in
theorem ndiv_same (x y : Int) (ax ay : Option Addr) (cx cy : Nat) (w : World) (hsx : (E 10 x.natAbs).length ≤ 80000) (hsy : (E 10 y.natAbs).length ≤ 80000) (hrx : Rb w ax (E 10 x.natAbs)) (hry : Rb w ay (E 10 y.natAbs)) (hy0 : 0 < y.natAbs) (h : neg x = neg y) :
    Calls Try.prog 60 #[.agg #[.bool (neg x), .slice ax (E 10 x.natAbs).length cx], .agg #[.bool (neg y), .slice ay (E 10 y.natAbs).length cy]] w (DivNP (qI x y) (rI x y) w) := by
  rw [show qI x y = zi (neg x != neg y) (x.natAbs / y.natAbs) by unfold qI QN; rw [if_pos (.inl h)], show rI x y = zi (neg y) (x.natAbs % y.natAbs) by unfold rI RN; rw [if_pos (.inl h)]]
  have hq0 : (E 10 (x.natAbs / y.natAbs)).length ≤ 80000 := Nat.le_trans (E_len_mono 10 _ _ (by omega) (Nat.div_le_self _ _)) hsx
  have hmod := Nat.mod_lt x.natAbs hy0
  have hr0 : (E 10 (x.natAbs % y.natAbs)).length ≤ 80000 := Nat.le_trans (E_len_mono 10 _ _ (by omega) (Nat.le_of_lt hmod)) hsy
  have hlq : (E 10 (x.natAbs / y.natAbs)).length ≤ 1000000 := Nat.le_trans hq0 (by omega)
  have hlr : (E 10 (x.natAbs % y.natAbs)).length ≤ 1000000 := Nat.le_trans hr0 (by omega)
  have HF := Lib.hid (fun (W1 w3 w4 : World) (qa ra : Option Addr) (qc rc : Nat) h0 h3 h4 h1 h2 h5 h6 u0 u1 u2 u3 => divNP_of (B := neg x != neg y) (C := neg y) (Q := x.natAbs / y.natAbs) (R := x.natAbs % y.natAbs) (w := w) (W1 := W1) (w3 := w3) (w4 := w4) (qc := qc) (rc := rc) (b0 := neg x) (b1 := neg y) (v0 := (.slice ax (E 10 x.natAbs).length cx)) (v1 := (.slice ay (E 10 y.natAbs).length cy)) (qa := qa) (ra := ra) h0 h3 h4 h1 h2 h5 h6 u0 u1 u2 u3)
  have HX : Hid (∀ W, Below (W3 w (neg x) (neg y) (.slice ax (E 10 x.natAbs).length cx) (.slice ay (E 10 y.natAbs).length cy)).heap.size (W3 w (neg x) (neg y) (.slice ax (E 10 x.natAbs).length cx) (.slice ay (E 10 y.natAbs).length cy)) W → Rb W ax (E 10 x.natAbs) ∧ Rb W ay (E 10 y.natAbs)) := fun W hb => ⟨(hrx.go (W3_below w _ _ _ _)).go hb, (hry.go (W3_below w _ _ _ _)).go hb⟩
  have HD : Hid (∀ W, Below (W3 w (neg x) (neg y) (.slice ax (E 10 x.natAbs).length cx) (.slice ay (E 10 y.natAbs).length cy)).heap.size (W3 w (neg x) (neg y) (.slice ax (E 10 x.natAbs).length cx) (.slice ay (E 10 y.natAbs).length cy)) W → Calls Try.prog 72 #[.slice ax (E 10 x.natAbs).length cx, .slice ay (E 10 y.natAbs).length cy] W (DivP (x.natAbs / y.natAbs) (x.natAbs % y.natAbs) W)) := fun W hb => divided_any _ _ hy0 ax ay cx cy W (HX.out W hb).1 (HX.out W hb).2 (by omega) (by omega)
  have HSq := Lib.hid (fun b a cap W => signed_any b (x.natAbs / y.natAbs) a cap W hlq)
  have HSr := Lib.hid (fun b a cap W => signed_any b (x.natAbs % y.natAbs) a cap W hlr)
  have HS0 : Hid (∀ W1, Below (W3 w (neg x) (neg y) (.slice ax (E 10 x.natAbs).length cx) (.slice ay (E 10 y.natAbs).length cy)).heap.size (W3 w (neg x) (neg y) (.slice ax (E 10 x.natAbs).length cx) (.slice ay (E 10 y.natAbs).length cy)) W1 → S2 W1 w.heap.size (neg x) (neg y) (.slice ax (E 10 x.natAbs).length cx) (.slice ay (E 10 y.natAbs).length cy) W1) := fun W1 h => W3_S2 w _ _ _ _ W1 h
  have HN : Hid (w.heap.size + 1 + 1 < (W3 w (neg x) (neg y) (.slice ax (E 10 x.natAbs).length cx) (.slice ay (E 10 y.natAbs).length cy)).heap.size) := by show _ < _; rw [W3_size]; omega
  have HRES : Hid (∀ W1 w3 w4, Below (W3 w (neg x) (neg y) (.slice ax (E 10 x.natAbs).length cx) (.slice ay (E 10 y.natAbs).length cy)).heap.size (W3 w (neg x) (neg y) (.slice ax (E 10 x.natAbs).length cx) (.slice ay (E 10 y.natAbs).length cy)) W1 → Below W1.drew.heap.size W1.drew w3 → Below w3.heap.size w3 w4 → _) := fun W1 w3 w4 h0 h3 h4 => W3_res w (neg x) (neg y) (.slice ax (E 10 x.natAbs).length cx) (.slice ay (E 10 y.natAbs).length cy) w4 ((h0.drew.trans (h3.mono h0.size)).trans (h4.mono (Nat.le_trans h0.size h3.size)))
  have HE : Hid ((W3 w (neg x) (neg y) (.slice ax (E 10 x.natAbs).length cx) (.slice ay (E 10 y.natAbs).length cy)) = (((w.alloc (.cells #[.bool (neg x), .slice ax (E 10 x.natAbs).length cx] 70)).alloc (.cells #[.bool (neg y), .slice ay (E 10 y.natAbs).length cy] 70)).alloc (.cells #[.bool false, .slice none 0 0] 70)).alloc (.cells #[.bool false, .slice none 0 0] 70)) := rfl
  clear hrx hry hmod
  generalize hW0 : (W3 w (neg x) (neg y) (.slice ax (E 10 x.natAbs).length cx) (.slice ay (E 10 y.natAbs).length cy)) = W0 at *
  clear hW0
  generalize hPo : DivNP (zi (neg x != neg y) (x.natAbs / y.natAbs)) (zi (neg y) (x.natAbs % y.natAbs)) w = Po at *
  clear hPo
  generalize x.natAbs / y.natAbs = Q at *
  generalize hRR : x.natAbs % y.natAbs = R at *
  clear hRR
  generalize neg x = bx at *
  generalize neg y = BY at *
  subst h
  rw [show (bx != bx) = false by simp] at HF
  generalize hlx : (E 10 x.natAbs).length = lx at *
  generalize hly : (E 10 y.natAbs).length = ly at *
  clear hlx hly hy0
  go_enter Try.func60, Try.ntmps60
  go_wp2_with fail
  rw [← HE.out]
  generalize w.heap.size = n at *
  refine (HD.out _ (Below.refl _ _)).mono ?_
  rintro e W1 ⟨qa, qc, ra, rc, rfl, hq1, hq2, hr1, hr2, hb1⟩
  have hS0 := Lib.hid (HS0.out W1 hb1)
  have hR1 := Lib.hid (fun w3 w4 h3 h4 => HRES.out W1 w3 w4 hb1 h3 h4)
  have hF1 := Lib.hid (fun w3 w4 h3 h4 u0 u1 u2 u3 => HF.out W1 w3 w4 qa ra qc rc hb1 h3 h4 hq1 hq2 hr1 hr2 u0 u1 u2 u3)
  have hN1 : Hid (n + 1 + 1 < W1.heap.size) := Nat.lt_of_lt_of_le HN.out hb1.size
  obtain ⟨z0, z1, z2, z3, _⟩ := hS0.out
  clear hb1 HRES HF HN hq1 hq2 hr1 hr2 HX HD HE
  generalize hlq0 : (E 10 Q).length = lq at *
  generalize hlr0 : (E 10 R).length = lr at *
  have hQL := Lib.hid hlq0
  have hRL := Lib.hid hlr0
  clear hlq0 hlr0
  go_wp2_with fail
  clear z0 z1 z2 z3
  have hS1 : W1.cell? ⟨n, 0, none⟩ = some (.bool bx) ∧ W1.cell? ⟨n, 1, none⟩ = some (.slice ax lx cx) ∧ W1.cell? ⟨n + 1, 0, none⟩ = some (.bool bx) ∧ W1.cell? ⟨n + 1, 1, none⟩ = some (.slice ay ly cy) ∧ Below (n + 1 + 1) W1 W1 := hS0.out
  go_region_held3 (fun w' => w'.cell? ⟨n, 0, none⟩ = some (.bool bx) ∧ w'.cell? ⟨n, 1, none⟩ = some (.slice ax lx cx) ∧ w'.cell? ⟨n + 1, 0, none⟩ = some (.bool bx) ∧ w'.cell? ⟨n + 1, 1, none⟩ = some (.slice ay ly cy) ∧ Below (n + 1 + 1) W1 w')
    (first | (with_reducible assumption) | (with_reducible exact S2.drewC (by assumption)) | (with_reducible exact S2.putC (by assumption)) | (with_reducible exact S2.put3C (by assumption)) | (with_reducible exact S2.keepC (by assumption) hN1.out (by assumption)))
    (first | (go_at_call 67; (with_reducible refine (HSq.out _ qa qc _).mono ?_); rintro e w3 ⟨rfl, hbb⟩) | (go_at_call 67; (with_reducible refine (HSr.out _ ra rc _).mono ?_); rintro e w4 ⟨rfl, hbb4⟩; obtain ⟨r0, r1, r2, r3, r4, r5, r6, r7⟩ := hR1.out _ _ hbb hbb4))
  go_wp2
  refine bodyPost_ret (v := .tuple #[.agg #[.bool (sg false Q), .slice qa (E 10 Q).length qc], .agg #[.bool (sg bx R), .slice ra (E 10 R).length rc]]) (by simp [results, Try.results60, go_sem, r0, r1, r4, r5]) rfl ?_
  rw [hQL.out, hRL.out]
  exact hF1.out _ _ hbb hbb4 _ _ _ _

set_option maxRecDepth 100000 in
set_option maxHeartbeats 1000000 in
theorem ndiv_zero (x y : Int) (ax ay : Option Addr) (cx cy : Nat) (w : World) (hsx : (E 10 x.natAbs).length ≤ 80000) (hsy : (E 10 y.natAbs).length ≤ 80000) (hrx : Rb w ax (E 10 x.natAbs)) (hry : Rb w ay (E 10 y.natAbs)) (hy0 : 0 < y.natAbs) (h : ¬ neg x = neg y) (h2 : x.natAbs % y.natAbs = 0) :
    Calls Try.prog 60 #[.agg #[.bool (neg x), .slice ax (E 10 x.natAbs).length cx], .agg #[.bool (neg y), .slice ay (E 10 y.natAbs).length cy]] w (DivNP (qI x y) (rI x y) w) := by
  rw [show qI x y = zi (neg x != neg y) (x.natAbs / y.natAbs) by unfold qI QN; rw [if_pos (.inr h2)], show rI x y = zi (neg y) (x.natAbs % y.natAbs) by unfold rI RN; rw [if_pos (.inr h2)]]
  have hq0 : (E 10 (x.natAbs / y.natAbs)).length ≤ 80000 := Nat.le_trans (E_len_mono 10 _ _ (by omega) (Nat.div_le_self _ _)) hsx
  have hmod := Nat.mod_lt x.natAbs hy0
  have hr0 : (E 10 (x.natAbs % y.natAbs)).length ≤ 80000 := Nat.le_trans (E_len_mono 10 _ _ (by omega) (Nat.le_of_lt hmod)) hsy
  have hlq : (E 10 (x.natAbs / y.natAbs)).length ≤ 1000000 := Nat.le_trans hq0 (by omega)
  have hlr : (E 10 (x.natAbs % y.natAbs)).length ≤ 1000000 := Nat.le_trans hr0 (by omega)
  have HF := Lib.hid (fun (W1 w3 w4 : World) (qa ra : Option Addr) (qc rc : Nat) h0 h3 h4 h1 h2 h5 h6 u0 u1 u2 u3 => divNP_of (B := neg x != neg y) (C := neg y) (Q := x.natAbs / y.natAbs) (R := x.natAbs % y.natAbs) (w := w) (W1 := W1) (w3 := w3) (w4 := w4) (qc := qc) (rc := rc) (b0 := neg x) (b1 := neg y) (v0 := (.slice ax (E 10 x.natAbs).length cx)) (v1 := (.slice ay (E 10 y.natAbs).length cy)) (qa := qa) (ra := ra) h0 h3 h4 h1 h2 h5 h6 u0 u1 u2 u3)
  have HX : Hid (∀ W, Below (W3 w (neg x) (neg y) (.slice ax (E 10 x.natAbs).length cx) (.slice ay (E 10 y.natAbs).length cy)).heap.size (W3 w (neg x) (neg y) (.slice ax (E 10 x.natAbs).length cx) (.slice ay (E 10 y.natAbs).length cy)) W → Rb W ax (E 10 x.natAbs) ∧ Rb W ay (E 10 y.natAbs)) := fun W hb => ⟨(hrx.go (W3_below w _ _ _ _)).go hb, (hry.go (W3_below w _ _ _ _)).go hb⟩
  have HD : Hid (∀ W, Below (W3 w (neg x) (neg y) (.slice ax (E 10 x.natAbs).length cx) (.slice ay (E 10 y.natAbs).length cy)).heap.size (W3 w (neg x) (neg y) (.slice ax (E 10 x.natAbs).length cx) (.slice ay (E 10 y.natAbs).length cy)) W → Calls Try.prog 72 #[.slice ax (E 10 x.natAbs).length cx, .slice ay (E 10 y.natAbs).length cy] W (DivP (x.natAbs / y.natAbs) (x.natAbs % y.natAbs) W)) := fun W hb => divided_any _ _ hy0 ax ay cx cy W (HX.out W hb).1 (HX.out W hb).2 (by omega) (by omega)
  have HSq := Lib.hid (fun b a cap W => signed_any b (x.natAbs / y.natAbs) a cap W hlq)
  have HSr := Lib.hid (fun b a cap W => signed_any b (x.natAbs % y.natAbs) a cap W hlr)
  have HS0 : Hid (∀ W1, Below (W3 w (neg x) (neg y) (.slice ax (E 10 x.natAbs).length cx) (.slice ay (E 10 y.natAbs).length cy)).heap.size (W3 w (neg x) (neg y) (.slice ax (E 10 x.natAbs).length cx) (.slice ay (E 10 y.natAbs).length cy)) W1 → S2 W1 w.heap.size (neg x) (neg y) (.slice ax (E 10 x.natAbs).length cx) (.slice ay (E 10 y.natAbs).length cy) W1) := fun W1 h => W3_S2 w _ _ _ _ W1 h
  have HN : Hid (w.heap.size + 1 + 1 < (W3 w (neg x) (neg y) (.slice ax (E 10 x.natAbs).length cx) (.slice ay (E 10 y.natAbs).length cy)).heap.size) := by show _ < _; rw [W3_size]; omega
  have HRES : Hid (∀ W1 w3 w4, Below (W3 w (neg x) (neg y) (.slice ax (E 10 x.natAbs).length cx) (.slice ay (E 10 y.natAbs).length cy)).heap.size (W3 w (neg x) (neg y) (.slice ax (E 10 x.natAbs).length cx) (.slice ay (E 10 y.natAbs).length cy)) W1 → Below W1.drew.heap.size W1.drew w3 → Below w3.heap.size w3 w4 → _) := fun W1 w3 w4 h0 h3 h4 => W3_res w (neg x) (neg y) (.slice ax (E 10 x.natAbs).length cx) (.slice ay (E 10 y.natAbs).length cy) w4 ((h0.drew.trans (h3.mono h0.size)).trans (h4.mono (Nat.le_trans h0.size h3.size)))
  have HE : Hid ((W3 w (neg x) (neg y) (.slice ax (E 10 x.natAbs).length cx) (.slice ay (E 10 y.natAbs).length cy)) = (((w.alloc (.cells #[.bool (neg x), .slice ax (E 10 x.natAbs).length cx] 70)).alloc (.cells #[.bool (neg y), .slice ay (E 10 y.natAbs).length cy] 70)).alloc (.cells #[.bool false, .slice none 0 0] 70)).alloc (.cells #[.bool false, .slice none 0 0] 70)) := rfl
  have hd : (neg x == neg y) = false := by simpa using h
  have hl0 : (E 10 (x.natAbs % y.natAbs)).length ≤ 0 := by rw [h2]; decide
  clear hrx hry hmod h2
  generalize hW0 : (W3 w (neg x) (neg y) (.slice ax (E 10 x.natAbs).length cx) (.slice ay (E 10 y.natAbs).length cy)) = W0 at *
  clear hW0
  generalize hPo : DivNP (zi (neg x != neg y) (x.natAbs / y.natAbs)) (zi (neg y) (x.natAbs % y.natAbs)) w = Po at *
  clear hPo
  generalize x.natAbs / y.natAbs = Q at *
  generalize hRR : x.natAbs % y.natAbs = R at *
  clear hRR
  generalize neg x = bx at *
  generalize neg y = by' at *
  rw [show (bx != by') = true by simp [h]] at HF
  generalize hlx : (E 10 x.natAbs).length = lx at *
  generalize hly : (E 10 y.natAbs).length = ly at *
  clear hlx hly hy0
  go_enter Try.func60, Try.ntmps60
  go_wp2_with fail
  rw [← HE.out]
  generalize w.heap.size = n at *
  refine (HD.out _ (Below.refl _ _)).mono ?_
  rintro e W1 ⟨qa, qc, ra, rc, rfl, hq1, hq2, hr1, hr2, hb1⟩
  have hS0 := Lib.hid (HS0.out W1 hb1)
  have hR1 := Lib.hid (fun w3 w4 h3 h4 => HRES.out W1 w3 w4 hb1 h3 h4)
  have hF1 := Lib.hid (fun w3 w4 h3 h4 u0 u1 u2 u3 => HF.out W1 w3 w4 qa ra qc rc hb1 h3 h4 hq1 hq2 hr1 hr2 u0 u1 u2 u3)
  have hN1 : Hid (n + 1 + 1 < W1.heap.size) := Nat.lt_of_lt_of_le HN.out hb1.size
  obtain ⟨z0, z1, z2, z3, _⟩ := hS0.out
  clear hb1 HRES HF HN hq1 hq2 hr1 hr2 HX HD HE
  generalize hlq0 : (E 10 Q).length = lq at *
  generalize hlr0 : (E 10 R).length = lr at *
  have hQL := Lib.hid hlq0
  have hRL := Lib.hid hlr0
  clear hlq0 hlr0
  go_wp2_with fail
  clear z0 z1 z2 z3
  have hS1 : W1.cell? ⟨n, 0, none⟩ = some (.bool bx) ∧ W1.cell? ⟨n, 1, none⟩ = some (.slice ax lx cx) ∧ W1.cell? ⟨n + 1, 0, none⟩ = some (.bool by') ∧ W1.cell? ⟨n + 1, 1, none⟩ = some (.slice ay ly cy) ∧ Below (n + 1 + 1) W1 W1 := hS0.out
  go_region_held3 (fun w' => w'.cell? ⟨n, 0, none⟩ = some (.bool bx) ∧ w'.cell? ⟨n, 1, none⟩ = some (.slice ax lx cx) ∧ w'.cell? ⟨n + 1, 0, none⟩ = some (.bool by') ∧ w'.cell? ⟨n + 1, 1, none⟩ = some (.slice ay ly cy) ∧ Below (n + 1 + 1) W1 w')
    (first | (with_reducible assumption) | (with_reducible exact S2.drewC (by assumption)) | (with_reducible exact S2.putC (by assumption)) | (with_reducible exact S2.put3C (by assumption)) | (with_reducible exact S2.keepC (by assumption) hN1.out (by assumption)))
    (first | (go_at_call 67; (with_reducible refine (HSq.out _ qa qc _).mono ?_); rintro e w3 ⟨rfl, hbb⟩) | (go_at_call 67; (with_reducible refine (HSr.out _ ra rc _).mono ?_); rintro e w4 ⟨rfl, hbb4⟩; obtain ⟨r0, r1, r2, r3, r4, r5, r6, r7⟩ := hR1.out _ _ hbb hbb4))
  go_wp2
  refine bodyPost_ret (v := .tuple #[.agg #[.bool (sg true Q), .slice qa (E 10 Q).length qc], .agg #[.bool (sg by' R), .slice ra (E 10 R).length rc]]) (by simp [results, Try.results60, go_sem, r0, r1, r4, r5]) rfl ?_
  rw [hQL.out, hRL.out]
  exact hF1.out _ _ hbb hbb4 _ _ _ _

set_option maxRecDepth 100000 in
set_option maxHeartbeats 1000000 in
theorem ndiv_up (x y : Int) (ax ay : Option Addr) (cx cy : Nat) (w : World) (hsx : (E 10 x.natAbs).length ≤ 80000) (hsy : (E 10 y.natAbs).length ≤ 80000) (hrx : Rb w ax (E 10 x.natAbs)) (hry : Rb w ay (E 10 y.natAbs)) (hy0 : 0 < y.natAbs) (h : ¬ neg x = neg y) (h2 : ¬ x.natAbs % y.natAbs = 0) :
    Calls Try.prog 60 #[.agg #[.bool (neg x), .slice ax (E 10 x.natAbs).length cx], .agg #[.bool (neg y), .slice ay (E 10 y.natAbs).length cy]] w (DivNP (qI x y) (rI x y) w) := by
  rw [show qI x y = zi (neg x != neg y) (x.natAbs / y.natAbs + 1) by unfold qI QN; rw [if_neg (fun g => g.elim h h2)], show rI x y = zi (neg y) (y.natAbs - x.natAbs % y.natAbs) by unfold rI RN; rw [if_neg (fun g => g.elim h h2)]]
  have hq0 : (E 10 (x.natAbs / y.natAbs)).length ≤ 80000 := Nat.le_trans (E_len_mono 10 _ _ (by omega) (Nat.div_le_self _ _)) hsx
  have hmod := Nat.mod_lt x.natAbs hy0
  have hr0 : (E 10 (x.natAbs % y.natAbs)).length ≤ 80000 := Nat.le_trans (E_len_mono 10 _ _ (by omega) (Nat.le_of_lt hmod)) hsy
  have hlq : (E 10 (x.natAbs / y.natAbs + 1)).length ≤ 1000000 := Nat.le_trans (len_add _ 1 80000 hq0 (by decide)) (by omega)
  have hlr : (E 10 (y.natAbs - x.natAbs % y.natAbs)).length ≤ 1000000 := Nat.le_trans (E_len_mono 10 _ _ (by omega) (Nat.sub_le _ _)) (Nat.le_trans hsy (by omega))
  have HF := Lib.hid (fun (W1 w3 w4 : World) (qa ra : Option Addr) (qc rc : Nat) h0 h3 h4 h1 h2 h5 h6 u0 u1 u2 u3 => divNP_of (B := neg x != neg y) (C := neg y) (Q := x.natAbs / y.natAbs + 1) (R := y.natAbs - x.natAbs % y.natAbs) (w := w) (W1 := W1) (w3 := w3) (w4 := w4) (qc := qc) (rc := rc) (b0 := neg x) (b1 := neg y) (v0 := (.slice ax (E 10 x.natAbs).length cx)) (v1 := (.slice ay (E 10 y.natAbs).length cy)) (qa := qa) (ra := ra) h0 h3 h4 h1 h2 h5 h6 u0 u1 u2 u3)
  have HX : Hid (∀ W, Below (W3 w (neg x) (neg y) (.slice ax (E 10 x.natAbs).length cx) (.slice ay (E 10 y.natAbs).length cy)).heap.size (W3 w (neg x) (neg y) (.slice ax (E 10 x.natAbs).length cx) (.slice ay (E 10 y.natAbs).length cy)) W → Rb W ax (E 10 x.natAbs) ∧ Rb W ay (E 10 y.natAbs)) := fun W hb => ⟨(hrx.go (W3_below w _ _ _ _)).go hb, (hry.go (W3_below w _ _ _ _)).go hb⟩
  have HD : Hid (∀ W, Below (W3 w (neg x) (neg y) (.slice ax (E 10 x.natAbs).length cx) (.slice ay (E 10 y.natAbs).length cy)).heap.size (W3 w (neg x) (neg y) (.slice ax (E 10 x.natAbs).length cx) (.slice ay (E 10 y.natAbs).length cy)) W → Calls Try.prog 72 #[.slice ax (E 10 x.natAbs).length cx, .slice ay (E 10 y.natAbs).length cy] W (DivP (x.natAbs / y.natAbs) (x.natAbs % y.natAbs) W)) := fun W hb => divided_any _ _ hy0 ax ay cx cy W (HX.out W hb).1 (HX.out W hb).2 (by omega) (by omega)
  have HSq := Lib.hid (fun b a cap W => signed_any b (x.natAbs / y.natAbs + 1) a cap W hlq)
  have HSr := Lib.hid (fun b a cap W => signed_any b (y.natAbs - x.natAbs % y.natAbs) a cap W hlr)
  have HS0 : Hid (∀ W1, Below (W3 w (neg x) (neg y) (.slice ax (E 10 x.natAbs).length cx) (.slice ay (E 10 y.natAbs).length cy)).heap.size (W3 w (neg x) (neg y) (.slice ax (E 10 x.natAbs).length cx) (.slice ay (E 10 y.natAbs).length cy)) W1 → S2 W1 w.heap.size (neg x) (neg y) (.slice ax (E 10 x.natAbs).length cx) (.slice ay (E 10 y.natAbs).length cy) W1) := fun W1 h => W3_S2 w _ _ _ _ W1 h
  have HN : Hid (w.heap.size + 1 + 1 < (W3 w (neg x) (neg y) (.slice ax (E 10 x.natAbs).length cx) (.slice ay (E 10 y.natAbs).length cy)).heap.size) := by show _ < _; rw [W3_size]; omega
  have HRES : Hid (∀ W1 w3 w4, Below (W3 w (neg x) (neg y) (.slice ax (E 10 x.natAbs).length cx) (.slice ay (E 10 y.natAbs).length cy)).heap.size (W3 w (neg x) (neg y) (.slice ax (E 10 x.natAbs).length cx) (.slice ay (E 10 y.natAbs).length cy)) W1 → Below W1.drew.heap.size W1.drew w3 → Below w3.heap.size w3 w4 → _) := fun W1 w3 w4 h0 h3 h4 => W3_res w (neg x) (neg y) (.slice ax (E 10 x.natAbs).length cx) (.slice ay (E 10 y.natAbs).length cy) w4 ((h0.drew.trans (h3.mono h0.size)).trans (h4.mono (Nat.le_trans h0.size h3.size)))
  have HE : Hid ((W3 w (neg x) (neg y) (.slice ax (E 10 x.natAbs).length cx) (.slice ay (E 10 y.natAbs).length cy)) = (((w.alloc (.cells #[.bool (neg x), .slice ax (E 10 x.natAbs).length cx] 70)).alloc (.cells #[.bool (neg y), .slice ay (E 10 y.natAbs).length cy] 70)).alloc (.cells #[.bool false, .slice none 0 0] 70)).alloc (.cells #[.bool false, .slice none 0 0] 70)) := rfl
  have hd : (neg x == neg y) = false := by simpa using h
  have hl0 : 0 < (E 10 (x.natAbs % y.natAbs)).length := len_pos _ h2
  have HPL := Lib.hid (fun qa qc W1 W hrq hr1 => plus_any (x.natAbs / y.natAbs) 1 qa (some ⟨W1, 0, none⟩) qc 1 W hrq hr1 (by omega) (by decide))
  have HMI := Lib.hid (fun ra rc W hr1 hr2 => minus_any y.natAbs (x.natAbs % y.natAbs) ay ra cy rc W hr1 hr2 (by omega) (Nat.le_of_lt hmod))
  clear hrx hry hmod h2
  generalize hW0 : (W3 w (neg x) (neg y) (.slice ax (E 10 x.natAbs).length cx) (.slice ay (E 10 y.natAbs).length cy)) = W0 at *
  clear hW0
  generalize hPo : DivNP (zi (neg x != neg y) (x.natAbs / y.natAbs + 1)) (zi (neg y) (y.natAbs - x.natAbs % y.natAbs)) w = Po at *
  clear hPo
  generalize hQ1 : x.natAbs / y.natAbs + 1 = Q at *
  generalize hR1 : y.natAbs - x.natAbs % y.natAbs = R at *
  clear hQ1 hR1
  generalize x.natAbs / y.natAbs = Q0 at *
  generalize hRR : x.natAbs % y.natAbs = R0 at *
  clear hRR
  generalize neg x = bx at *
  generalize neg y = by' at *
  rw [show (bx != by') = true by simp [h]] at HF
  generalize hlx : (E 10 x.natAbs).length = lx at *
  generalize hly : (E 10 y.natAbs).length = ly at *
  clear hlx hly hy0
  go_enter Try.func60, Try.ntmps60
  go_wp2_with fail
  rw [← HE.out]
  generalize w.heap.size = n at *
  refine (HD.out _ (Below.refl _ _)).mono ?_
  rintro e W1 ⟨qa, qc, ra, rc, rfl, hq1, hq2, hr1, hr2, hb1⟩
  have hS0 := Lib.hid (HS0.out W1 hb1)
  obtain ⟨z0, z1, z2, z3, _⟩ := hS0.out
  generalize hlq0 : (E 10 Q0).length = lq0 at *
  generalize hlr0 : (E 10 R0).length = lr0 at *
  clear hlq0 hlr0
  have hq3 := Lib.hid hq1
  have hr3 := Lib.hid hr1
  clear hq1 hr1 hq2 hr2 HE
  go_wp2_with fail
  have hone : Rb (W1.alloc (.cells #[.int .u8 1] 5)) (some ⟨W1.heap.size, 0, none⟩) (E 10 1) := (Row.new W1 5 [1]).rb
  have hba : Below W1.heap.size W1 (W1.alloc (.cells #[.int .u8 1] 5)) := (Below.refl _ _).alloc (Nat.le_refl _) _
  refine (HPL.out qa qc W1.heap.size _ (hq3.out.go hba) hone).mono ?_
  rintro e W2' ⟨pa, pc, rfl, hp1, hp2, _, hb2⟩
  have hb12 : Below W1.heap.size W1 W2' := hba.trans (hb2.mono hba.size)
  have hbb2 : Below W0.heap.size W0 W2' := hb1.trans (hb12.mono hb1.size)
  have hS2 := Lib.hid (HS0.out W2' hbb2)
  have hr4 := Lib.hid (hr3.out.go hb12)
  have hp3 := Lib.hid hp1
  clear z0 z1 z2 z3
  obtain ⟨z0, z1, z2, z3, _⟩ := hS2.out
  clear hone hba hb2 hb12 hb1 hp1
  go_wp2_with fail
  refine (HMI.out ra rc _ (HX.out _ hbb2).2 hr4.out).mono ?_
  rintro e W1' ⟨ma, mc, rfl, hm1, hm2, _, hb3⟩
  have hb1 : Below W0.heap.size W0 W1' := hbb2.trans (hb3.mono hbb2.size)
  have hp4 := hp3.out.go hb3
  clear z0 z1 z2 z3 hS2 hS0
  have hS0 := Lib.hid (HS0.out W1' hb1)
  have hR1 := Lib.hid (fun w3 w4 h3 h4 => HRES.out W1' w3 w4 hb1 h3 h4)
  have hF1 := Lib.hid (fun w3 w4 h3 h4 u0 u1 u2 u3 => HF.out W1' w3 w4 pa ma pc mc hb1 h3 h4 hp4 hp2 hm1 hm2 u0 u1 u2 u3)
  have hN1 : Hid (n + 1 + 1 < W1'.heap.size) := Nat.lt_of_lt_of_le HN.out hb1.size
  obtain ⟨z0, z1, z2, z3, _⟩ := hS0.out
  clear hb1 HRES HF HN HX HD hbb2 hb3 hp4 hp2 hm1 hm2
  generalize hlq0 : (E 10 Q).length = lq at *
  generalize hlr0 : (E 10 R).length = lr at *
  have hQL := Lib.hid hlq0
  have hRL := Lib.hid hlr0
  clear hlq0 hlr0
  go_wp2_with fail
  clear z0 z1 z2 z3
  have hS1 : W1'.cell? ⟨n, 0, none⟩ = some (.bool bx) ∧ W1'.cell? ⟨n, 1, none⟩ = some (.slice ax lx cx) ∧ W1'.cell? ⟨n + 1, 0, none⟩ = some (.bool by') ∧ W1'.cell? ⟨n + 1, 1, none⟩ = some (.slice ay ly cy) ∧ Below (n + 1 + 1) W1' W1' := hS0.out
  go_region_held3 (fun w' => w'.cell? ⟨n, 0, none⟩ = some (.bool bx) ∧ w'.cell? ⟨n, 1, none⟩ = some (.slice ax lx cx) ∧ w'.cell? ⟨n + 1, 0, none⟩ = some (.bool by') ∧ w'.cell? ⟨n + 1, 1, none⟩ = some (.slice ay ly cy) ∧ Below (n + 1 + 1) W1' w')
    (first | (with_reducible assumption) | (with_reducible exact S2.drewC (by assumption)) | (with_reducible exact S2.putC (by assumption)) | (with_reducible exact S2.put3C (by assumption)) | (with_reducible exact S2.keepC (by assumption) hN1.out (by assumption)))
    (first | (go_at_call 67; (with_reducible refine (HSq.out _ pa pc _).mono ?_); rintro e w3 ⟨rfl, hbb⟩) | (go_at_call 67; (with_reducible refine (HSr.out _ ma mc _).mono ?_); rintro e w4 ⟨rfl, hbb4⟩; obtain ⟨r0, r1, r2, r3, r4, r5, r6, r7⟩ := hR1.out _ _ hbb hbb4))
  go_wp2
  refine bodyPost_ret (v := .tuple #[.agg #[.bool (sg true Q), .slice pa (E 10 Q).length pc], .agg #[.bool (sg by' R), .slice ma (E 10 R).length mc]]) (by simp [results, Try.results60, go_sem, r0, r1, r4, r5]) rfl ?_
  rw [hQL.out, hRL.out]
  exact hF1.out _ _ hbb hbb4 _ _ _ _

theorem ndivided_any (x y : Int) (ax ay : Option Addr) (cx cy : Nat) (w : World) (hsx : (E 10 x.natAbs).length ≤ 80000) (hsy : (E 10 y.natAbs).length ≤ 80000) (hrx : Rb w ax (E 10 x.natAbs)) (hry : Rb w ay (E 10 y.natAbs)) (hy0 : 0 < y.natAbs) :
    Calls Try.prog 60 #[.agg #[.bool (neg x), .slice ax (E 10 x.natAbs).length cx], .agg #[.bool (neg y), .slice ay (E 10 y.natAbs).length cy]] w (DivNP (qI x y) (rI x y) w) := by
  by_cases h : neg x = neg y
  · exact ndiv_same x y ax ay cx cy w hsx hsy hrx hry hy0 h
  · by_cases h2 : x.natAbs % y.natAbs = 0
    · exact ndiv_zero x y ax ay cx cy w hsx hsy hrx hry hy0 h h2
    · exact ndiv_up x y ax ay cx cy w hsx hsy hrx hry hy0 h h2
end Go.Proofs.Ytmnopohjnbpinab
