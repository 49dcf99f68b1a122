/-
  Helper: the walks of number.plus and number.minus.
-/
import Derived.Test.YtmnopohjnbpinabINumT
import Derived.Test.YtmnopohjnbpinabINat6
namespace Go.Proofs.Ytmnopohjnbpinab
open Go.RowKit
set_option linter.unusedVariables false

theorem zi_add_same (x y : Int) (h : neg x = neg y) : zi (neg x) (x.natAbs + y.natAbs) = x + y := by
  unfold zi neg at *
  by_cases hx : x < 0
  · have hy : y < 0 := by simpa [hx] using h.symm
    simp [hx]; omega
  · have hy : ¬ y < 0 := by simpa [hx] using h.symm
    simp [hx]; omega
theorem zi_add_ge (x y : Int) (h : neg x ≠ neg y) (hge : y.natAbs ≤ x.natAbs) : zi (neg x) (x.natAbs - y.natAbs) = x + y := by
  unfold zi neg at *
  by_cases hx : x < 0
  · have hy : ¬ y < 0 := fun g => h (by simp [hx, g])
    simp [hx]; omega
  · have hy : y < 0 := by
      by_cases g : y < 0
      · exact g
      · exact absurd (by simp [hx, g]) h
    simp [hx]; omega
theorem zi_add_lt (x y : Int) (h : neg x ≠ neg y) (hlt : x.natAbs < y.natAbs) : zi (neg y) (y.natAbs - x.natAbs) = x + y := by
  have := zi_add_ge y x (fun e => h e.symm) (by omega)
  rw [this]; omega
theorem len_add (m n k : Nat) (h1 : (E 10 m).length ≤ k) (h2 : (E 10 n).length ≤ k) : (E 10 (m + n)).length ≤ k + 1 := by
  have h1 := (E_len_le 10 m k (by omega)).1 h1
  have h2 := (E_len_le 10 n k (by omega)).1 h2
  refine (E_len_le 10 _ _ (by omega)).2 ?_
  rw [Nat.pow_succ]; omega

set_option maxRecDepth 100000 in
set_option maxHeartbeats 4000000 in
theorem plus_same (x y : Int) (ax ay : Option Addr) (cx cy : Nat) (w : World) (hsx : (E 10 x.natAbs).length ≤ 100000) (hsy : (E 10 y.natAbs).length ≤ 100000) (hrx : Rb w ax (E 10 x.natAbs)) (hry : Rb w ay (E 10 y.natAbs)) (h : neg x = neg y) :
    Calls Try.prog 51 #[.agg #[.bool (neg x), .slice ax (E 10 x.natAbs).length cx], .agg #[.bool (neg y), .slice ay (E 10 y.natAbs).length cy]] w (NumP (x + y) w) := by
  have hlen : (E 10 (x.natAbs + y.natAbs)).length ≤ 1000000 := Nat.le_trans (len_add _ _ _ hsx hsy) (by omega)
  rw [← zi_add_same x y h]
  have hd : (neg x == neg y) = true := by rw [h]; simp
  have HF := Lib.hid (fun (W1 w3 w4 : World) (ra : Option Addr) (rc : Nat) h0 h3 h4 h1 h2 u0 u1 => numP_S2z (B := neg x) (N := x.natAbs + y.natAbs) (w := w) (W1 := W1) (w3 := w3) (w4 := w4) (rc := rc) (b0 := neg x) (b1 := neg y) (v0 := (.slice ax (E 10 x.natAbs).length cx)) (v1 := (.slice ay (E 10 y.natAbs).length cy)) (ra := ra) h0 h3 h4 h1 h2 u0 u1)
  have HX : Hid (∀ W, Below (w.heap.size + 1 + 1) (W2 w (neg x) (neg y) (.slice ax (E 10 x.natAbs).length cx) (.slice ay (E 10 y.natAbs).length cy)) W → Rb W ax (E 10 x.natAbs) ∧ Rb W ay (E 10 y.natAbs)) := fun W hb => ⟨hrx.below ((W2_below w _ _ _ _).trans (hb.mono (by omega))) (Nat.le_refl _), hry.below ((W2_below w _ _ _ _).trans (hb.mono (by omega))) (Nat.le_refl _)⟩
  have HT : Hid (∀ W, Below (w.heap.size + 1 + 1) (W2 w (neg x) (neg y) (.slice ax (E 10 x.natAbs).length cx) (.slice ay (E 10 y.natAbs).length cy)) W → Calls Try.prog 69 #[.slice ax (E 10 x.natAbs).length cx, .slice ay (E 10 y.natAbs).length cy] W (NatP (x.natAbs + y.natAbs) W)) := fun W hb => plus_any _ _ ax ay cx cy W (HX.out W hb).1 (HX.out W hb).2 hsx hsy
  have HS := Lib.hid (fun a cap W => signed_any (neg x) (x.natAbs + y.natAbs) a cap W hlen)
  have HS0 : Hid (∀ W1, Below (W2 w (neg x) (neg y) (.slice ax (E 10 x.natAbs).length cx) (.slice ay (E 10 y.natAbs).length cy)).heap.size (W2 w (neg x) (neg y) (.slice ax (E 10 x.natAbs).length cx) (.slice ay (E 10 y.natAbs).length cy)) W1 → S2 W1 w.heap.size (neg x) (neg y) (.slice ax (E 10 x.natAbs).length cx) (.slice ay (E 10 y.natAbs).length cy) W1) := fun W1 h => by
    obtain ⟨h1, h2, h3, h4, h9⟩ := (S2.start w (neg x) (neg y) (.slice ax (E 10 x.natAbs).length cx) (.slice ay (E 10 y.natAbs).length cy)).keep (by rw [W2_size]; omega) h
    exact ⟨h1, h2, h3, h4, Below.refl _ _⟩
  have HN : Hid (w.heap.size + 1 + 1 < (W2 w (neg x) (neg y) (.slice ax (E 10 x.natAbs).length cx) (.slice ay (E 10 y.natAbs).length cy)).heap.size) := by show _ < _; rw [W2_size]; omega
  have HRES : Hid (∀ W1 w3 w4, Below (W2 w (neg x) (neg y) (.slice ax (E 10 x.natAbs).length cx) (.slice ay (E 10 y.natAbs).length cy)).heap.size (W2 w (neg x) (neg y) (.slice ax (E 10 x.natAbs).length cx) (.slice ay (E 10 y.natAbs).length cy)) W1 → Below W1.drew.heap.size W1.drew w3 → Below w3.heap.size w3 w4 → _) := fun W1 w3 w4 h0 h3 h4 => W2_res w (neg x) (neg y) (.slice ax (E 10 x.natAbs).length cx) (.slice ay (E 10 y.natAbs).length cy) w4 ((h0.drew.trans (h3.mono h0.size)).trans (h4.mono (Nat.le_trans h0.size h3.size)))
  have HE : Hid ((W2 w (neg x) (neg y) (.slice ax (E 10 x.natAbs).length cx) (.slice ay (E 10 y.natAbs).length cy)) = ((w.alloc (.cells #[.bool (neg x), .slice ax (E 10 x.natAbs).length cx] 70)).alloc (.cells #[.bool (neg y), .slice ay (E 10 y.natAbs).length cy] 70)).alloc (.cells #[.bool false, .slice none 0 0] 70)) := rfl
  clear hrx hry hlen
  generalize hW0 : (W2 w (neg x) (neg y) (.slice ax (E 10 x.natAbs).length cx) (.slice ay (E 10 y.natAbs).length cy)) = W0 at *
  clear hW0
  generalize hPo : NumP (zi (neg x) (x.natAbs + y.natAbs)) w = Po at *
  clear hPo
  generalize neg x = bx at *
  generalize neg y = BY at *
  subst h
  clear hd
  generalize hlx : (E 10 x.natAbs).length = lx at *
  generalize hly : (E 10 y.natAbs).length = ly at *
  clear hlx hly
  go_enter Try.func51, Try.ntmps51
  go_wp2_with fail
  rw [← HE.out]
  generalize w.heap.size = n at *
  have hS0 := Lib.hid (HS0.out W0 (Below.refl _ _))
  have hR1 := Lib.hid (fun w3 w4 h3 h4 => HRES.out W0 w3 w4 (Below.refl _ _) h3 h4)
  have hF1 := Lib.hid (fun w3 w4 ra rc h3 h4 h1 h2 u0 u1 => HF.out W0 w3 w4 ra rc (Below.refl _ _) h3 h4 h1 h2 u0 u1)
  have hN1 := HN
  have hBW : Hid (Below (n + 1 + 1) W0 W0) := Below.refl _ _
  clear HRES HF HN
  have hT1 : Hid (∀ W, Below (n + 1 + 1) W0 W → Calls Try.prog 69 #[.slice ax lx cx, .slice ay ly cy] W (NatP (x.natAbs + y.natAbs) W)) := fun W h => HT.out W (hBW.out.trans h)
  have hS1 : W0.cell? ⟨n, 0, none⟩ = some (.bool bx) ∧ W0.cell? ⟨n, 1, none⟩ = some (.slice ax lx cx) ∧ W0.cell? ⟨n + 1, 0, none⟩ = some (.bool bx) ∧ W0.cell? ⟨n + 1, 1, none⟩ = some (.slice ay ly cy) ∧ Below (n + 1 + 1) W0 W0 := hS0.out
  go_region_held3 (fun w' => w'.cell? ⟨n, 0, none⟩ = some (.bool bx) ∧ w'.cell? ⟨n, 1, none⟩ = some (.slice ax lx cx) ∧ w'.cell? ⟨n + 1, 0, none⟩ = some (.bool bx) ∧ w'.cell? ⟨n + 1, 1, none⟩ = some (.slice ay ly cy) ∧ Below (n + 1 + 1) W0 w')
    (first | assumption | exact S2.drew (by assumption) | exact S2.put (by assumption) | exact S2.keep (by assumption) hN1.out (by assumption))
    (first | (go_at_call 69; refine (hT1.out _ ?_).mono ?_; exact (by assumption : S2 _ _ _ _ _ _ _).2.2.2.2; rintro e w3 ⟨ta, tc, rfl, hr3, hl3, _, hbb⟩) | (go_at_call 67; refine (HS.out _ _ _).mono ?_; rintro e w4 ⟨rfl, hbb4⟩; obtain ⟨r0, r1, r2, r3⟩ := hR1.out _ _ hbb hbb4))
  go_wp2
  refine bodyPost_ret (v := .agg #[.bool (sg bx (x.natAbs + y.natAbs)), .slice ta (E 10 (x.natAbs + y.natAbs)).length tc]) (by simp [results, Try.results51, go_sem, r0, r1]) rfl ?_
  exact hF1.out _ _ ta tc hbb hbb4 hr3 hl3 _ _

set_option maxRecDepth 100000 in
set_option maxHeartbeats 4000000 in
theorem plus_ge (x y : Int) (ax ay : Option Addr) (cx cy : Nat) (w : World) (hsx : (E 10 x.natAbs).length ≤ 100000) (hsy : (E 10 y.natAbs).length ≤ 100000) (hrx : Rb w ax (E 10 x.natAbs)) (hry : Rb w ay (E 10 y.natAbs)) (h : neg x ≠ neg y) (hge : y.natAbs ≤ x.natAbs) :
    Calls Try.prog 51 #[.agg #[.bool (neg x), .slice ax (E 10 x.natAbs).length cx], .agg #[.bool (neg y), .slice ay (E 10 y.natAbs).length cy]] w (NumP (x + y) w) := by
  have hlen : (E 10 (x.natAbs - y.natAbs)).length ≤ 1000000 := Nat.le_trans (E_len_mono 10 _ _ (by omega) (Nat.sub_le _ _)) (Nat.le_trans hsx (by omega))
  rw [← zi_add_ge x y h hge]
  have hd : (neg x == neg y) = false := by simpa using h
  have HF := Lib.hid (fun (W1 w3 w4 : World) (ra : Option Addr) (rc : Nat) h0 h3 h4 h1 h2 u0 u1 => numP_S2z (B := neg x) (N := x.natAbs - y.natAbs) (w := w) (W1 := W1) (w3 := w3) (w4 := w4) (rc := rc) (b0 := neg x) (b1 := neg y) (v0 := (.slice ax (E 10 x.natAbs).length cx)) (v1 := (.slice ay (E 10 y.natAbs).length cy)) (ra := ra) h0 h3 h4 h1 h2 u0 u1)
  have HX : Hid (∀ W, Below (w.heap.size + 1 + 1) (W2 w (neg x) (neg y) (.slice ax (E 10 x.natAbs).length cx) (.slice ay (E 10 y.natAbs).length cy)) W → Rb W ax (E 10 x.natAbs) ∧ Rb W ay (E 10 y.natAbs)) := fun W hb => ⟨hrx.below ((W2_below w _ _ _ _).trans (hb.mono (by omega))) (Nat.le_refl _), hry.below ((W2_below w _ _ _ _).trans (hb.mono (by omega))) (Nat.le_refl _)⟩
  have HT : Hid (∀ W, Below (w.heap.size + 1 + 1) (W2 w (neg x) (neg y) (.slice ax (E 10 x.natAbs).length cx) (.slice ay (E 10 y.natAbs).length cy)) W → Calls Try.prog 62 #[.slice ax (E 10 x.natAbs).length cx, .slice ay (E 10 y.natAbs).length cy] W (NatP (x.natAbs - y.natAbs) W)) := fun W hb => minus_any _ _ ax ay cx cy W (HX.out W hb).1 (HX.out W hb).2 hsx hge
  have HCM : Hid (∀ W, Below (w.heap.size + 1 + 1) (W2 w (neg x) (neg y) (.slice ax (E 10 x.natAbs).length cx) (.slice ay (E 10 y.natAbs).length cy)) W → Calls Try.prog 70 #[.slice ax (E 10 x.natAbs).length cx, .slice ay (E 10 y.natAbs).length cy] W (CmpGe W)) := fun W hb => compare_ge _ _ ax ay cx cy W (HX.out W hb).1 (HX.out W hb).2 (by omega) (by omega) hge
  have HS := Lib.hid (fun a cap W => signed_any (neg x) (x.natAbs - y.natAbs) a cap W hlen)
  have HS0 : Hid (∀ W1, Below (W2 w (neg x) (neg y) (.slice ax (E 10 x.natAbs).length cx) (.slice ay (E 10 y.natAbs).length cy)).heap.size (W2 w (neg x) (neg y) (.slice ax (E 10 x.natAbs).length cx) (.slice ay (E 10 y.natAbs).length cy)) W1 → S2 W1 w.heap.size (neg x) (neg y) (.slice ax (E 10 x.natAbs).length cx) (.slice ay (E 10 y.natAbs).length cy) W1) := fun W1 h => by
    obtain ⟨h1, h2, h3, h4, h9⟩ := (S2.start w (neg x) (neg y) (.slice ax (E 10 x.natAbs).length cx) (.slice ay (E 10 y.natAbs).length cy)).keep (by rw [W2_size]; omega) h
    exact ⟨h1, h2, h3, h4, Below.refl _ _⟩
  have HN : Hid (w.heap.size + 1 + 1 < (W2 w (neg x) (neg y) (.slice ax (E 10 x.natAbs).length cx) (.slice ay (E 10 y.natAbs).length cy)).heap.size) := by show _ < _; rw [W2_size]; omega
  have HRES : Hid (∀ W1 w3 w4, Below (W2 w (neg x) (neg y) (.slice ax (E 10 x.natAbs).length cx) (.slice ay (E 10 y.natAbs).length cy)).heap.size (W2 w (neg x) (neg y) (.slice ax (E 10 x.natAbs).length cx) (.slice ay (E 10 y.natAbs).length cy)) W1 → Below W1.drew.heap.size W1.drew w3 → Below w3.heap.size w3 w4 → _) := fun W1 w3 w4 h0 h3 h4 => W2_res w (neg x) (neg y) (.slice ax (E 10 x.natAbs).length cx) (.slice ay (E 10 y.natAbs).length cy) w4 ((h0.drew.trans (h3.mono h0.size)).trans (h4.mono (Nat.le_trans h0.size h3.size)))
  have HE : Hid ((W2 w (neg x) (neg y) (.slice ax (E 10 x.natAbs).length cx) (.slice ay (E 10 y.natAbs).length cy)) = ((w.alloc (.cells #[.bool (neg x), .slice ax (E 10 x.natAbs).length cx] 70)).alloc (.cells #[.bool (neg y), .slice ay (E 10 y.natAbs).length cy] 70)).alloc (.cells #[.bool false, .slice none 0 0] 70)) := rfl
  clear hrx hry hlen
  generalize hW0 : (W2 w (neg x) (neg y) (.slice ax (E 10 x.natAbs).length cx) (.slice ay (E 10 y.natAbs).length cy)) = W0 at *
  clear hW0
  generalize hPo : NumP (zi (neg x) (x.natAbs - y.natAbs)) w = Po at *
  clear hPo
  generalize neg x = bx at *
  generalize neg y = by' at *
  generalize hlx : (E 10 x.natAbs).length = lx at *
  generalize hly : (E 10 y.natAbs).length = ly at *
  clear hlx hly
  go_enter Try.func51, Try.ntmps51
  go_wp2_with fail
  rw [← HE.out]
  generalize w.heap.size = n at *
  refine (HCM.out _ (Below.refl _ _)).mono ?_
  rintro e W1 ⟨cc, hc0, hc1, rfl, hb1⟩
  have hS0 := Lib.hid (HS0.out W1 hb1)
  have hR1 := Lib.hid (fun w3 w4 h3 h4 => HRES.out W1 w3 w4 hb1 h3 h4)
  have hF1 := Lib.hid (fun w3 w4 ra rc h3 h4 h1 h2 u0 u1 => HF.out W1 w3 w4 ra rc hb1 h3 h4 h1 h2 u0 u1)
  have hN1 : Hid (n + 1 + 1 < W1.heap.size) := Nat.lt_of_lt_of_le HN.out hb1.size
  have hBW : Hid (Below (n + 1 + 1) W0 W1) := hb1.mono (Nat.le_of_lt HN.out)
  obtain ⟨z0, z1, z2, z3, _⟩ := hS0.out
  clear hb1 HRES HF HN
  go_wp2_with fail
  clear z0 z1 z2 z3
  generalize W1 = W1 at *
  have hT1 : Hid (∀ W, Below (n + 1 + 1) W1 W → Calls Try.prog 62 #[.slice ax lx cx, .slice ay ly cy] W (NatP (x.natAbs - y.natAbs) W)) := fun W h => HT.out W (hBW.out.trans h)
  have hS1 : W1.cell? ⟨n, 0, none⟩ = some (.bool bx) ∧ W1.cell? ⟨n, 1, none⟩ = some (.slice ax lx cx) ∧ W1.cell? ⟨n + 1, 0, none⟩ = some (.bool by') ∧ W1.cell? ⟨n + 1, 1, none⟩ = some (.slice ay ly cy) ∧ Below (n + 1 + 1) W1 W1 := hS0.out
  go_region_held3 (fun w' => w'.cell? ⟨n, 0, none⟩ = some (.bool bx) ∧ w'.cell? ⟨n, 1, none⟩ = some (.slice ax lx cx) ∧ w'.cell? ⟨n + 1, 0, none⟩ = some (.bool by') ∧ w'.cell? ⟨n + 1, 1, none⟩ = some (.slice ay ly cy) ∧ Below (n + 1 + 1) W1 w')
    (first | assumption | exact S2.drew (by assumption) | exact S2.put (by assumption) | exact S2.keep (by assumption) hN1.out (by assumption))
    (first | (go_at_call 62; refine (hT1.out _ ?_).mono ?_; exact (by assumption : S2 _ _ _ _ _ _ _).2.2.2.2; rintro e w3 ⟨ta, tc, rfl, hr3, hl3, _, hbb⟩) | (go_at_call 67; refine (HS.out _ _ _).mono ?_; rintro e w4 ⟨rfl, hbb4⟩; obtain ⟨r0, r1, r2, r3⟩ := hR1.out _ _ hbb hbb4))
  go_wp2
  refine bodyPost_ret (v := .agg #[.bool (sg bx (x.natAbs - y.natAbs)), .slice ta (E 10 (x.natAbs - y.natAbs)).length tc]) (by simp [results, Try.results51, go_sem, r0, r1]) rfl ?_
  exact hF1.out _ _ ta tc hbb hbb4 hr3 hl3 _ _

set_option maxRecDepth 100000 in
set_option maxHeartbeats 4000000 in
theorem plus_lt (x y : Int) (ax ay : Option Addr) (cx cy : Nat) (w : World) (hsx : (E 10 x.natAbs).length ≤ 100000) (hsy : (E 10 y.natAbs).length ≤ 100000) (hrx : Rb w ax (E 10 x.natAbs)) (hry : Rb w ay (E 10 y.natAbs)) (h : neg x ≠ neg y) (hlt : x.natAbs < y.natAbs) :
    Calls Try.prog 51 #[.agg #[.bool (neg x), .slice ax (E 10 x.natAbs).length cx], .agg #[.bool (neg y), .slice ay (E 10 y.natAbs).length cy]] w (NumP (x + y) w) := by
  have hlen : (E 10 (y.natAbs - x.natAbs)).length ≤ 1000000 := Nat.le_trans (E_len_mono 10 _ _ (by omega) (Nat.sub_le _ _)) (Nat.le_trans hsy (by omega))
  rw [← zi_add_lt x y h hlt]
  have hd : (neg x == neg y) = false := by simpa using h
  have HF := Lib.hid (fun (W1 w3 w4 : World) (ra : Option Addr) (rc : Nat) h0 h3 h4 h1 h2 u0 u1 => numP_S2z (B := neg y) (N := y.natAbs - x.natAbs) (w := w) (W1 := W1) (w3 := w3) (w4 := w4) (rc := rc) (b0 := neg x) (b1 := neg y) (v0 := (.slice ax (E 10 x.natAbs).length cx)) (v1 := (.slice ay (E 10 y.natAbs).length cy)) (ra := ra) h0 h3 h4 h1 h2 u0 u1)
  have HX : Hid (∀ W, Below (w.heap.size + 1 + 1) (W2 w (neg x) (neg y) (.slice ax (E 10 x.natAbs).length cx) (.slice ay (E 10 y.natAbs).length cy)) W → Rb W ax (E 10 x.natAbs) ∧ Rb W ay (E 10 y.natAbs)) := fun W hb => ⟨hrx.below ((W2_below w _ _ _ _).trans (hb.mono (by omega))) (Nat.le_refl _), hry.below ((W2_below w _ _ _ _).trans (hb.mono (by omega))) (Nat.le_refl _)⟩
  have HT : Hid (∀ W, Below (w.heap.size + 1 + 1) (W2 w (neg x) (neg y) (.slice ax (E 10 x.natAbs).length cx) (.slice ay (E 10 y.natAbs).length cy)) W → Calls Try.prog 62 #[.slice ay (E 10 y.natAbs).length cy, .slice ax (E 10 x.natAbs).length cx] W (NatP (y.natAbs - x.natAbs) W)) := fun W hb => minus_any _ _ ay ax cy cx W (HX.out W hb).2 (HX.out W hb).1 hsy (Nat.le_of_lt hlt)
  have HCM : Hid (∀ W, Below (w.heap.size + 1 + 1) (W2 w (neg x) (neg y) (.slice ax (E 10 x.natAbs).length cx) (.slice ay (E 10 y.natAbs).length cy)) W → Calls Try.prog 70 #[.slice ax (E 10 x.natAbs).length cx, .slice ay (E 10 y.natAbs).length cy] W (fun e w' => e = .returned (.int .i64 (-1)) ∧ Below W.heap.size W w')) := fun W hb => compare_lt _ _ ax ay cx cy W (HX.out W hb).1 (HX.out W hb).2 (by omega) (by omega) hlt
  have HS := Lib.hid (fun a cap W => signed_any (neg y) (y.natAbs - x.natAbs) a cap W hlen)
  have HS0 : Hid (∀ W1, Below (W2 w (neg x) (neg y) (.slice ax (E 10 x.natAbs).length cx) (.slice ay (E 10 y.natAbs).length cy)).heap.size (W2 w (neg x) (neg y) (.slice ax (E 10 x.natAbs).length cx) (.slice ay (E 10 y.natAbs).length cy)) W1 → S2 W1 w.heap.size (neg x) (neg y) (.slice ax (E 10 x.natAbs).length cx) (.slice ay (E 10 y.natAbs).length cy) W1) := fun W1 h => by
    obtain ⟨h1, h2, h3, h4, h9⟩ := (S2.start w (neg x) (neg y) (.slice ax (E 10 x.natAbs).length cx) (.slice ay (E 10 y.natAbs).length cy)).keep (by rw [W2_size]; omega) h
    exact ⟨h1, h2, h3, h4, Below.refl _ _⟩
  have HN : Hid (w.heap.size + 1 + 1 < (W2 w (neg x) (neg y) (.slice ax (E 10 x.natAbs).length cx) (.slice ay (E 10 y.natAbs).length cy)).heap.size) := by show _ < _; rw [W2_size]; omega
  have HRES : Hid (∀ W1 w3 w4, Below (W2 w (neg x) (neg y) (.slice ax (E 10 x.natAbs).length cx) (.slice ay (E 10 y.natAbs).length cy)).heap.size (W2 w (neg x) (neg y) (.slice ax (E 10 x.natAbs).length cx) (.slice ay (E 10 y.natAbs).length cy)) W1 → Below W1.drew.heap.size W1.drew w3 → Below w3.heap.size w3 w4 → _) := fun W1 w3 w4 h0 h3 h4 => W2_res w (neg x) (neg y) (.slice ax (E 10 x.natAbs).length cx) (.slice ay (E 10 y.natAbs).length cy) w4 ((h0.drew.trans (h3.mono h0.size)).trans (h4.mono (Nat.le_trans h0.size h3.size)))
  have HE : Hid ((W2 w (neg x) (neg y) (.slice ax (E 10 x.natAbs).length cx) (.slice ay (E 10 y.natAbs).length cy)) = ((w.alloc (.cells #[.bool (neg x), .slice ax (E 10 x.natAbs).length cx] 70)).alloc (.cells #[.bool (neg y), .slice ay (E 10 y.natAbs).length cy] 70)).alloc (.cells #[.bool false, .slice none 0 0] 70)) := rfl
  clear hrx hry hlen
  generalize hW0 : (W2 w (neg x) (neg y) (.slice ax (E 10 x.natAbs).length cx) (.slice ay (E 10 y.natAbs).length cy)) = W0 at *
  clear hW0
  generalize hPo : NumP (zi (neg y) (y.natAbs - x.natAbs)) w = Po at *
  clear hPo
  generalize neg x = bx at *
  generalize neg y = by' at *
  generalize hlx : (E 10 x.natAbs).length = lx at *
  generalize hly : (E 10 y.natAbs).length = ly at *
  clear hlx hly
  go_enter Try.func51, Try.ntmps51
  go_wp2_with fail
  rw [← HE.out]
  generalize w.heap.size = n at *
  refine (HCM.out _ (Below.refl _ _)).mono ?_
  rintro e W1 ⟨rfl, hb1⟩
  have hS0 := Lib.hid (HS0.out W1 hb1)
  have hR1 := Lib.hid (fun w3 w4 h3 h4 => HRES.out W1 w3 w4 hb1 h3 h4)
  have hF1 := Lib.hid (fun w3 w4 ra rc h3 h4 h1 h2 u0 u1 => HF.out W1 w3 w4 ra rc hb1 h3 h4 h1 h2 u0 u1)
  have hN1 : Hid (n + 1 + 1 < W1.heap.size) := Nat.lt_of_lt_of_le HN.out hb1.size
  have hBW : Hid (Below (n + 1 + 1) W0 W1) := hb1.mono (Nat.le_of_lt HN.out)
  obtain ⟨z0, z1, z2, z3, _⟩ := hS0.out
  clear hb1 HRES HF HN
  go_wp2_with fail
  clear z0 z1 z2 z3
  generalize W1 = W1 at *
  have hT1 : Hid (∀ W, Below (n + 1 + 1) W1 W → Calls Try.prog 62 #[.slice ay ly cy, .slice ax lx cx] W (NatP (y.natAbs - x.natAbs) W)) := fun W h => HT.out W (hBW.out.trans h)
  have hS1 : W1.cell? ⟨n, 0, none⟩ = some (.bool bx) ∧ W1.cell? ⟨n, 1, none⟩ = some (.slice ax lx cx) ∧ W1.cell? ⟨n + 1, 0, none⟩ = some (.bool by') ∧ W1.cell? ⟨n + 1, 1, none⟩ = some (.slice ay ly cy) ∧ Below (n + 1 + 1) W1 W1 := hS0.out
  go_region_held3 (fun w' => w'.cell? ⟨n, 0, none⟩ = some (.bool bx) ∧ w'.cell? ⟨n, 1, none⟩ = some (.slice ax lx cx) ∧ w'.cell? ⟨n + 1, 0, none⟩ = some (.bool by') ∧ w'.cell? ⟨n + 1, 1, none⟩ = some (.slice ay ly cy) ∧ Below (n + 1 + 1) W1 w')
    (first | assumption | exact S2.drew (by assumption) | exact S2.put (by assumption) | exact S2.keep (by assumption) hN1.out (by assumption))
    (first | (go_at_call 62; refine (hT1.out _ ?_).mono ?_; exact (by assumption : S2 _ _ _ _ _ _ _).2.2.2.2; rintro e w3 ⟨ta, tc, rfl, hr3, hl3, _, hbb⟩) | (go_at_call 67; refine (HS.out _ _ _).mono ?_; rintro e w4 ⟨rfl, hbb4⟩; obtain ⟨r0, r1, r2, r3⟩ := hR1.out _ _ hbb hbb4))
  go_wp2
  refine bodyPost_ret (v := .agg #[.bool (sg by' (y.natAbs - x.natAbs)), .slice ta (E 10 (y.natAbs - x.natAbs)).length tc]) (by simp [results, Try.results51, go_sem, r0, r1]) rfl ?_
  exact hF1.out _ _ ta tc hbb hbb4 hr3 hl3 _ _

theorem nplus_any (x y : Int) (ax ay : Option Addr) (cx cy : Nat) (w : World) (hsx : (E 10 x.natAbs).length ≤ 100000) (hsy : (E 10 y.natAbs).length ≤ 100000) (hrx : Rb w ax (E 10 x.natAbs)) (hry : Rb w ay (E 10 y.natAbs)) :
    Calls Try.prog 51 #[.agg #[.bool (neg x), .slice ax (E 10 x.natAbs).length cx], .agg #[.bool (neg y), .slice ay (E 10 y.natAbs).length cy]] w (NumP (x + y) w) := by
  by_cases h : neg x = neg y
  · exact plus_same x y ax ay cx cy w hsx hsy hrx hry h
  · by_cases hge : y.natAbs ≤ x.natAbs
    · exact plus_ge x y ax ay cx cy w hsx hsy hrx hry h hge
    · exact plus_lt x y ax ay cx cy w hsx hsy hrx hry h (by omega)
end Go.Proofs.Ytmnopohjnbpinab
