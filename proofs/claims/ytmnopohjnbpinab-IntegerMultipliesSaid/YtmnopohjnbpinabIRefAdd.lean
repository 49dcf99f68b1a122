/-
  Helper: the walks of the reference's Neg, Cmp and Add.
-/
import Derived.Test.YtmnopohjnbpinabIRefPM
import Derived.Test.YtmnopohjnbpinabIRefText
import Derived.Test.YtmnopohjnbpinabINumA
import Derived.Test.YtmnopohjnbpinabINumD0
namespace Go.Proofs.Ytmnopohjnbpinab
open Go.RowKit
set_option linter.unusedVariables false

def R2 (w : World) (b0 b1 : Bool) (v0 v1 : Value) : World := ((w.alloc (.cells #[.bool b0, v0] 28)).alloc (.cells #[.bool b1, v1] 28)).alloc (.cells #[.bool false, .slice none 0 0] 28)
theorem R2_size (w : World) (b0 b1 : Bool) (v0 v1 : Value) : (R2 w b0 b1 v0 v1).heap.size = w.heap.size + 1 + 1 + 1 := by unfold R2; simp
theorem R2_below (w : World) (b0 b1 : Bool) (v0 v1 : Value) : Below w.heap.size w (R2 w b0 b1 v0 v1) := by
  unfold R2; exact (((Below.refl _ w).alloc (Nat.le_refl _) _).alloc (by simp) _).alloc (by simp; omega) _
theorem R2_blocks (w : World) (b0 b1 : Bool) (v0 v1 : Value) : (R2 w b0 b1 v0 v1).heap[w.heap.size]? = some (.cells #[.bool b0, v0] 28) ∧ (R2 w b0 b1 v0 v1).heap[w.heap.size + 1]? = some (.cells #[.bool b1, v1] 28) ∧ (R2 w b0 b1 v0 v1).heap[w.heap.size + 1 + 1]? = some (.cells #[.bool false, .slice none 0 0] 28) := by
  have e2 := heap_alloc_new ((w.alloc (.cells #[.bool b0, v0] 28)).alloc (.cells #[.bool b1, v1] 28)) (.cells #[.bool false, .slice none 0 0] 28)
  have e1 := heap_alloc_new (w.alloc (.cells #[.bool b0, v0] 28)) (.cells #[.bool b1, v1] 28)
  have e0 := heap_alloc_new w (.cells #[.bool b0, v0] 28)
  refine ⟨?_, ?_, ?_⟩
  · unfold R2; rw [Below.heap_alloc _ _ _ (by simp; omega), Below.heap_alloc _ _ _ (by simp)]; exact e0
  · unfold R2; rw [Below.heap_alloc _ _ _ (by simp)]; simpa using e1
  · unfold R2; simpa using e2
theorem S2.startR (w : World) (b0 b1 : Bool) (v0 v1 : Value) : S2 (R2 w b0 b1 v0 v1) w.heap.size b0 b1 v0 v1 (R2 w b0 b1 v0 v1) := by
  obtain ⟨g0, g1, g2⟩ := R2_blocks w b0 b1 v0 v1
  refine ⟨?_, ?_, ?_, ?_, Below.refl _ _⟩
  · simp [World.cell?, g0]
  · simp [World.cell?, g0]
  · simp [World.cell?, g1]
  · simp [World.cell?, g1]
/-- the result's box, as it was made -/
theorem R2_res (w : World) (b0 b1 : Bool) (v0 v1 : Value) (w' : World) (h : Below (R2 w b0 b1 v0 v1).heap.size (R2 w b0 b1 v0 v1) w') :
    w'.cell? ⟨w.heap.size + 1 + 1, 0, none⟩ = some (.bool false) ∧ w'.cell? ⟨w.heap.size + 1 + 1, 1, none⟩ = some (.slice none 0 0) ∧ w'.frozen? ⟨w.heap.size + 1 + 1, 0, none⟩ = false ∧ w'.frozen? ⟨w.heap.size + 1 + 1, 1, none⟩ = false := by
  have g2 := (h.block (w.heap.size + 1 + 1) (by rw [R2_size]; omega)).trans (R2_blocks w b0 b1 v0 v1).2.2
  refine ⟨?_, ?_, ?_, ?_⟩
  · simp [World.cell?, g2]
  · simp [World.cell?, g2]
  · simp [World.frozen?, g2]
  · simp [World.frozen?, g2]
/-- the result is stored into its box -/
theorem numP_R2 {z : Int} {w w2 : World} {n rc : Nat} {b0 b1 : Bool} {v0 v1 : Value} {ra : Option Addr} (hn : n = w.heap.size) (h : Below (R2 w b0 b1 v0 v1).heap.size (R2 w b0 b1 v0 v1) w2)
    (h1 : Rb w2 ra (E 10 z.natAbs)) (h2 : (E 10 z.natAbs).length ≤ rc) (u0 u1 : Value) : NumP z w (.returned (.agg #[.bool (neg z), .slice ra (E 10 z.natAbs).length rc])) ((w2.setCell ⟨n + 1 + 1, 0, none⟩ u0).setCell ⟨n + 1 + 1, 1, none⟩ u1) := by
  refine numP_box (X := (w.alloc (.cells #[.bool b0, v0] 28)).alloc (.cells #[.bool b1, v1] 28)) (((Below.refl _ w).alloc (Nat.le_refl _) _).alloc (by simp) _) (by subst hn; simp) h h1 h2 u0 u1

set_option maxRecDepth 100000 in
set_option maxHeartbeats 1000000 in
theorem refNeg_any (z : Int) (a : Option Addr) (cap : Nat) (w : World) (hs : (E 10 z.natAbs).length ≤ 1000000) (hr : Rb w a (E 10 z.natAbs)) (hl : (E 10 z.natAbs).length ≤ cap) :
    Calls Try.prog 23 #[.agg #[.bool (neg z), .slice a (E 10 z.natAbs).length cap]] w (NumP (-z) w) := by
  have HR := Lib.hid hr
  have HF := Lib.hid (fun (w2 X : World) (n t n0 c0 rc : Nat) (b0 : Bool) (a0 ra : Option Addr) hwX hn hx h1 h2 v0 v1 => numP_box (z := -z) (w := w) (w2 := w2) (X := X) (n := n) (t := t) (n0 := n0) (c0 := c0) (rc := rc) (b0 := b0) (a0 := a0) (ra := ra) hwX hn hx h1 h2 v0 v1)
  have HS : Hid (∀ w1, Below w.heap.size w w1 → Calls Try.prog 44 #[.slice a (E 10 z.natAbs).length cap, .bool (!neg z)] w1 (NumP (-z) w1)) := fun w1 hb => by
    have := refSigned_any (!neg z) (E 10 z.natAbs) a cap w1 hs hl (hr.go hb) (dg_E 10 _ (by omega) (by omega))
    rw [vb_E 10 _ (by omega) (by omega), zi_flip] at this; exact this
  clear hr
  generalize hPo : NumP (-z) w = Po at *
  clear hPo
  generalize neg z = b at *
  generalize (E 10 z.natAbs).length = l at *
  go_enter Try.func23, Try.ntmps23
  go_wp2_with fail
  refine (HS.out _ (((Below.refl _ _).alloc (Nat.le_refl _) _).alloc (by simp) _)).mono ?_
  rintro e w2 ⟨ra, rc, rfl, h1, h2, h3⟩
  obtain ⟨c0, c1, f0, f1⟩ := resbox (n := w.heap.size + 1) (by simp) h3
  have HN := Lib.hid (HF.out w2 _ (w.heap.size + 1) _ _ _ rc _ _ ra ((Below.refl _ w).alloc (Nat.le_refl _) _) (by simp) h3 h1 h2)
  clear h1 h2 h3 HF HS
  generalize neg (-z) = b2 at *
  generalize (E 10 (-z).natAbs).length = l2 at *
  go_wp2
  refine bodyPost_ret (v := .agg #[.bool b2, .slice ra l2 rc]) (by simp [results, Try.results23, go_sem, c0, c1]) rfl ?_
  exact HN.out _ _
set_option maxRecDepth 100000 in
set_option maxHeartbeats 4000000 in
theorem refAdd_same (x y : Int) (ax ay : Option Addr) (cx cy : Nat) (w : World) (hsx : (E 10 x.natAbs).length ≤ 100000) (hsy : (E 10 y.natAbs).length ≤ 100000) (hrx : Rb w ax (E 10 x.natAbs)) (hry : Rb w ay (E 10 y.natAbs)) (h : neg x = neg y) :
    Calls Try.prog 25 #[.agg #[.bool (neg x), .slice ax (E 10 x.natAbs).length cx], .agg #[.bool (neg y), .slice ay (E 10 y.natAbs).length cy]] w (NumP (x + y) w) := by
  have hd : (neg x == neg y) = true := by rw [h]; simp
  have HF := Lib.hid (fun (w4 : World) (ra : Option Addr) (rc : Nat) h h1 h2 u0 u1 => numP_R2 (z := x + y) (w := w) (w2 := w4) (n := w.heap.size) (rc := rc) (b0 := neg x) (b1 := neg y) (v0 := (.slice ax (E 10 x.natAbs).length cx)) (v1 := (.slice ay (E 10 y.natAbs).length cy)) (ra := ra) rfl h h1 h2 u0 u1)
  have HX : Hid (∀ W, Below (w.heap.size + 1 + 1) (R2 w (neg x) (neg y) (.slice ax (E 10 x.natAbs).length cx) (.slice ay (E 10 y.natAbs).length cy)) W → Rb W ax (E 10 x.natAbs) ∧ Rb W ay (E 10 y.natAbs)) := Lib.hid fun W hb => ⟨hrx.below ((R2_below w _ _ _ _).trans (hb.mono (by omega))) (Nat.le_refl _), hry.below ((R2_below w _ _ _ _).trans (hb.mono (by omega))) (Nat.le_refl _)⟩
  have HT : Hid (∀ W, Below (w.heap.size + 1 + 1) (R2 w (neg x) (neg y) (.slice ax (E 10 x.natAbs).length cx) (.slice ay (E 10 y.natAbs).length cy)) W → Calls Try.prog 56 #[.slice ax (E 10 x.natAbs).length cx, .slice ay (E 10 y.natAbs).length cy] W (DigP (x.natAbs + y.natAbs) W)) := Lib.hid fun W hb => refPlus_any _ _ ax ay cx cy W (HX.out W hb).1 (HX.out W hb).2 hsx hsy
  have HS : Hid (∀ (l : List UInt8) (a : Option Addr) (cap : Nat) W, l.length ≤ 1000000 → l.length ≤ cap → Rb W a l → Dg 10 l → vb 10 l = x.natAbs + y.natAbs → Calls Try.prog 44 #[.slice a l.length cap, .bool (neg x)] W (NumP (x + y) W)) := Lib.hid fun l a cap W h1 h2 h3 h4 h5 => by
    have hq := refSigned_any (neg x) l a cap W h1 h2 h3 h4
    rw [h5, zi_add_same x y h] at hq; exact hq
  have HS0 : Hid (∀ W1, Below (R2 w (neg x) (neg y) (.slice ax (E 10 x.natAbs).length cx) (.slice ay (E 10 y.natAbs).length cy)).heap.size (R2 w (neg x) (neg y) (.slice ax (E 10 x.natAbs).length cx) (.slice ay (E 10 y.natAbs).length cy)) W1 → S2 W1 w.heap.size (neg x) (neg y) (.slice ax (E 10 x.natAbs).length cx) (.slice ay (E 10 y.natAbs).length cy) W1) := fun W1 h => by
    obtain ⟨h1, h2, h3, h4, h9⟩ := (S2.startR w (neg x) (neg y) (.slice ax (E 10 x.natAbs).length cx) (.slice ay (E 10 y.natAbs).length cy)).keep (by rw [R2_size]; omega) h
    exact ⟨h1, h2, h3, h4, Below.refl _ _⟩
  have HN : Hid (w.heap.size + 1 + 1 < (R2 w (neg x) (neg y) (.slice ax (E 10 x.natAbs).length cx) (.slice ay (E 10 y.natAbs).length cy)).heap.size) := by show _ < _; rw [R2_size]; omega
  have HRES : Hid (∀ W1 w3 w4, Below (R2 w (neg x) (neg y) (.slice ax (E 10 x.natAbs).length cx) (.slice ay (E 10 y.natAbs).length cy)).heap.size (R2 w (neg x) (neg y) (.slice ax (E 10 x.natAbs).length cx) (.slice ay (E 10 y.natAbs).length cy)) W1 → Below W1.drew.heap.size W1.drew w3 → Below w3.heap.size w3 w4 → _) := fun W1 w3 w4 h0 h3 h4 => R2_res w (neg x) (neg y) (.slice ax (E 10 x.natAbs).length cx) (.slice ay (E 10 y.natAbs).length cy) w4 ((h0.drew.trans (h3.mono h0.size)).trans (h4.mono (Nat.le_trans h0.size h3.size)))
  have HE : Hid ((R2 w (neg x) (neg y) (.slice ax (E 10 x.natAbs).length cx) (.slice ay (E 10 y.natAbs).length cy)) = ((w.alloc (.cells #[.bool (neg x), .slice ax (E 10 x.natAbs).length cx] 28)).alloc (.cells #[.bool (neg y), .slice ay (E 10 y.natAbs).length cy] 28)).alloc (.cells #[.bool false, .slice none 0 0] 28)) := rfl
  have HL3 : Hid (∀ l : Nat, l ≤ 200000 → l ≤ 1000000) := Lib.hid fun l h => by omega
  have HCN : Hid ((E 10 (x.natAbs + y.natAbs)).length ≤ 1000000 ∧ Dg 10 (E 10 (x.natAbs + y.natAbs)) ∧ vb 10 (E 10 (x.natAbs + y.natAbs)) = x.natAbs + y.natAbs) := Lib.hid ⟨Nat.le_trans (len_add _ _ _ hsx hsy) (by omega), dg_E 10 _ (by omega) (by omega), vb_E 10 _ (by omega) (by omega)⟩
  clear hrx hry
  generalize hW0 : (R2 w (neg x) (neg y) (.slice ax (E 10 x.natAbs).length cx) (.slice ay (E 10 y.natAbs).length cy)) = W0 at *
  clear hW0
  generalize hPo : NumP (x + y) w = Po at *
  clear hPo
  generalize neg x = bx at *
  generalize neg y = BY at *
  subst h
  clear hd
  generalize hlx : (E 10 x.natAbs).length = lx at *
  generalize hly : (E 10 y.natAbs).length = ly at *
  clear hlx hly
  go_enter Try.func25, Try.ntmps25
  go_wp2_with fail
  rw [← HE.out]
  generalize w.heap.size = n at *
  have hS0 := Lib.hid (HS0.out W0 (Below.refl _ _))
  have hR1 := Lib.hid (fun w3 w4 h3 h4 => HRES.out W0 w3 w4 (Below.refl _ _) h3 h4)
  have hF1 := Lib.hid (fun w3 w4 ra rc (h3 : Below W0.drew.heap.size W0.drew w3) (h4 : Below w3.heap.size w3 w4) h1 h2 u0 u1 => HF.out w4 ra rc (((Below.refl _ W0).drew.trans h3).trans (h4.mono h3.size)) h1 h2 u0 u1)
  have hN1 := HN
  have hBW : Hid (Below (n + 1 + 1) W0 W0) := Below.refl _ _
  clear HRES HF HN
  have hT1 : Hid (∀ W, Below (n + 1 + 1) W0 W → Calls Try.prog 56 #[.slice ax lx cx, .slice ay ly cy] W (DigP (x.natAbs + y.natAbs) W)) := fun W h => HT.out W (hBW.out.trans h)
  have hS1 : W0.cell? ⟨n, 0, none⟩ = some (.bool bx) ∧ W0.cell? ⟨n, 1, none⟩ = some (.slice ax lx cx) ∧ W0.cell? ⟨n + 1, 0, none⟩ = some (.bool bx) ∧ W0.cell? ⟨n + 1, 1, none⟩ = some (.slice ay ly cy) ∧ Below (n + 1 + 1) W0 W0 := hS0.out
  go_region_held3 (fun w' => w'.cell? ⟨n, 0, none⟩ = some (.bool bx) ∧ w'.cell? ⟨n, 1, none⟩ = some (.slice ax lx cx) ∧ w'.cell? ⟨n + 1, 0, none⟩ = some (.bool bx) ∧ w'.cell? ⟨n + 1, 1, none⟩ = some (.slice ay ly cy) ∧ Below (n + 1 + 1) W0 w')
    (first | assumption | (with_reducible exact S2.drewC (by assumption)) | (with_reducible exact S2.putC (by assumption)) | (with_reducible exact S2.keepC (by assumption) hN1.out (by assumption)))
    (first | (go_at_call 56; refine (hT1.out _ ?_).mono ?_; exact (by assumption : _ ∧ _ ∧ _ ∧ _ ∧ Below _ _ _).2.2.2.2; rintro e w3 ⟨l3, ta, tc, rfl, hr3, hl3, hg3, hv3, hn3, hbb⟩) | (go_at_call 44; refine (HS.out l3 ta tc _ (HL3.out _ hn3) hl3 hr3 hg3 hv3).mono ?_; rintro e w4 ⟨ra, rc, rfl, hr4, hc4, hbb4⟩; obtain ⟨r0, r1, r2, r3⟩ := hR1.out _ _ hbb hbb4))
  go_wp2
  refine bodyPost_ret (v := .agg #[.bool (neg (x + y)), .slice ra (E 10 (x + y).natAbs).length rc]) (by simp [results, Try.results25, go_sem, r0, r1]) rfl ?_
  exact hF1.out _ _ ra rc hbb hbb4 hr4 hc4 _ _

set_option maxRecDepth 100000 in
set_option maxHeartbeats 4000000 in
theorem refAdd_ge (x y : Int) (ax ay : Option Addr) (cx cy : Nat) (w : World) (hsx : (E 10 x.natAbs).length ≤ 100000) (hsy : (E 10 y.natAbs).length ≤ 100000) (hrx : Rb w ax (E 10 x.natAbs)) (hry : Rb w ay (E 10 y.natAbs)) (h : neg x ≠ neg y) (hge : y.natAbs ≤ x.natAbs) :
    Calls Try.prog 25 #[.agg #[.bool (neg x), .slice ax (E 10 x.natAbs).length cx], .agg #[.bool (neg y), .slice ay (E 10 y.natAbs).length cy]] w (NumP (x + y) w) := by
  have hd : (neg x == neg y) = false := by simpa using h
  have HF := Lib.hid (fun (w4 : World) (ra : Option Addr) (rc : Nat) h h1 h2 u0 u1 => numP_R2 (z := x + y) (w := w) (w2 := w4) (n := w.heap.size) (rc := rc) (b0 := neg x) (b1 := neg y) (v0 := (.slice ax (E 10 x.natAbs).length cx)) (v1 := (.slice ay (E 10 y.natAbs).length cy)) (ra := ra) rfl h h1 h2 u0 u1)
  have HX : Hid (∀ W, Below (w.heap.size + 1 + 1) (R2 w (neg x) (neg y) (.slice ax (E 10 x.natAbs).length cx) (.slice ay (E 10 y.natAbs).length cy)) W → Rb W ax (E 10 x.natAbs) ∧ Rb W ay (E 10 y.natAbs)) := Lib.hid fun W hb => ⟨hrx.below ((R2_below w _ _ _ _).trans (hb.mono (by omega))) (Nat.le_refl _), hry.below ((R2_below w _ _ _ _).trans (hb.mono (by omega))) (Nat.le_refl _)⟩
  have HT : Hid (∀ W, Below (w.heap.size + 1 + 1) (R2 w (neg x) (neg y) (.slice ax (E 10 x.natAbs).length cx) (.slice ay (E 10 y.natAbs).length cy)) W → Calls Try.prog 57 #[.slice ax (E 10 x.natAbs).length cx, .slice ay (E 10 y.natAbs).length cy] W (CanP (x.natAbs - y.natAbs) W)) := Lib.hid fun W hb => refMinus_any _ _ hge ax ay cx cy W (HX.out W hb).1 (HX.out W hb).2 hsx
  have HCM : Hid (∀ W, Below (w.heap.size + 1 + 1) (R2 w (neg x) (neg y) (.slice ax (E 10 x.natAbs).length cx) (.slice ay (E 10 y.natAbs).length cy)) W → Calls Try.prog 54 #[.slice ax (E 10 x.natAbs).length cx, .slice ay (E 10 y.natAbs).length cy] W fun e w' => ∃ cc : Int, (0 ≤ cc) ∧ e = .returned (.int .i64 cc) ∧ Below W.heap.size W w') := Lib.hid fun W hb => (refSize_any _ _ ax ay cx cy W (HX.out W hb).1 (HX.out W hb).2 (by omega) (by omega)).mono fun e w' h => ⟨_, by unfold cmpN; rw [if_neg (by omega)]; split <;> omega, h.1, h.2⟩
  have HS : Hid (∀ (l : List UInt8) (a : Option Addr) (cap : Nat) W, l.length ≤ 1000000 → l.length ≤ cap → Rb W a l → Dg 10 l → vb 10 l = x.natAbs - y.natAbs → Calls Try.prog 44 #[.slice a l.length cap, .bool (neg x)] W (NumP (x + y) W)) := Lib.hid fun l a cap W h1 h2 h3 h4 h5 => by
    have hq := refSigned_any (neg x) l a cap W h1 h2 h3 h4
    rw [h5, zi_add_ge x y h hge] at hq; exact hq
  have HS0 : Hid (∀ W1, Below (R2 w (neg x) (neg y) (.slice ax (E 10 x.natAbs).length cx) (.slice ay (E 10 y.natAbs).length cy)).heap.size (R2 w (neg x) (neg y) (.slice ax (E 10 x.natAbs).length cx) (.slice ay (E 10 y.natAbs).length cy)) W1 → S2 W1 w.heap.size (neg x) (neg y) (.slice ax (E 10 x.natAbs).length cx) (.slice ay (E 10 y.natAbs).length cy) W1) := fun W1 h => by
    obtain ⟨h1, h2, h3, h4, h9⟩ := (S2.startR w (neg x) (neg y) (.slice ax (E 10 x.natAbs).length cx) (.slice ay (E 10 y.natAbs).length cy)).keep (by rw [R2_size]; omega) h
    exact ⟨h1, h2, h3, h4, Below.refl _ _⟩
  have HN : Hid (w.heap.size + 1 + 1 < (R2 w (neg x) (neg y) (.slice ax (E 10 x.natAbs).length cx) (.slice ay (E 10 y.natAbs).length cy)).heap.size) := by show _ < _; rw [R2_size]; omega
  have HRES : Hid (∀ W1 w3 w4, Below (R2 w (neg x) (neg y) (.slice ax (E 10 x.natAbs).length cx) (.slice ay (E 10 y.natAbs).length cy)).heap.size (R2 w (neg x) (neg y) (.slice ax (E 10 x.natAbs).length cx) (.slice ay (E 10 y.natAbs).length cy)) W1 → Below W1.drew.heap.size W1.drew w3 → Below w3.heap.size w3 w4 → _) := fun W1 w3 w4 h0 h3 h4 => R2_res w (neg x) (neg y) (.slice ax (E 10 x.natAbs).length cx) (.slice ay (E 10 y.natAbs).length cy) w4 ((h0.drew.trans (h3.mono h0.size)).trans (h4.mono (Nat.le_trans h0.size h3.size)))
  have HE : Hid ((R2 w (neg x) (neg y) (.slice ax (E 10 x.natAbs).length cx) (.slice ay (E 10 y.natAbs).length cy)) = ((w.alloc (.cells #[.bool (neg x), .slice ax (E 10 x.natAbs).length cx] 28)).alloc (.cells #[.bool (neg y), .slice ay (E 10 y.natAbs).length cy] 28)).alloc (.cells #[.bool false, .slice none 0 0] 28)) := rfl
  have HL3 : Hid (∀ l : Nat, l ≤ 200000 → l ≤ 1000000) := Lib.hid fun l h => by omega
  have HCN : Hid ((E 10 (x.natAbs - y.natAbs)).length ≤ 1000000 ∧ Dg 10 (E 10 (x.natAbs - y.natAbs)) ∧ vb 10 (E 10 (x.natAbs - y.natAbs)) = x.natAbs - y.natAbs) := Lib.hid ⟨Nat.le_trans (E_len_mono 10 _ _ (by omega) (Nat.sub_le _ _)) (Nat.le_trans hsx (by omega)), dg_E 10 _ (by omega) (by omega), vb_E 10 _ (by omega) (by omega)⟩
  clear hrx hry
  generalize hW0 : (R2 w (neg x) (neg y) (.slice ax (E 10 x.natAbs).length cx) (.slice ay (E 10 y.natAbs).length cy)) = W0 at *
  clear hW0
  generalize hPo : NumP (x + y) w = Po at *
  clear hPo
  generalize neg x = bx at *
  generalize neg y = by' at *
  generalize hlx : (E 10 x.natAbs).length = lx at *
  generalize hly : (E 10 y.natAbs).length = ly at *
  clear hlx hly
  go_enter Try.func25, Try.ntmps25
  go_wp2_with fail
  rw [← HE.out]
  generalize w.heap.size = n at *
  refine (HCM.out _ (Below.refl _ _)).mono ?_
  rintro e W1 ⟨cc, hc0, rfl, hb1⟩
  have hS0 := Lib.hid (HS0.out W1 hb1)
  have hR1 := Lib.hid (fun w3 w4 h3 h4 => HRES.out W1 w3 w4 hb1 h3 h4)
  have hF1 := Lib.hid (fun w3 w4 ra rc (h3 : Below W1.drew.heap.size W1.drew w3) (h4 : Below w3.heap.size w3 w4) h1 h2 u0 u1 => HF.out w4 ra rc ((hb1.drew.trans (h3.mono hb1.size)).trans (h4.mono (Nat.le_trans hb1.size h3.size))) h1 h2 u0 u1)
  have hN1 : Hid (n + 1 + 1 < W1.heap.size) := Nat.lt_of_lt_of_le HN.out hb1.size
  have hBW : Hid (Below (n + 1 + 1) W0 W1) := hb1.mono (Nat.le_of_lt HN.out)
  obtain ⟨z0, z1, z2, z3, _⟩ := hS0.out
  clear hb1 HRES HF HN
  go_wp2_with fail
  clear z0 z1 z2 z3
  have hT1 : Hid (∀ W, Below (n + 1 + 1) W1 W → Calls Try.prog 57 #[.slice ax lx cx, .slice ay ly cy] W (CanP (x.natAbs - y.natAbs) W)) := fun W h => HT.out W (hBW.out.trans h)
  have hS1 : W1.cell? ⟨n, 0, none⟩ = some (.bool bx) ∧ W1.cell? ⟨n, 1, none⟩ = some (.slice ax lx cx) ∧ W1.cell? ⟨n + 1, 0, none⟩ = some (.bool by') ∧ W1.cell? ⟨n + 1, 1, none⟩ = some (.slice ay ly cy) ∧ Below (n + 1 + 1) W1 W1 := hS0.out
  go_region_held3 (fun w' => w'.cell? ⟨n, 0, none⟩ = some (.bool bx) ∧ w'.cell? ⟨n, 1, none⟩ = some (.slice ax lx cx) ∧ w'.cell? ⟨n + 1, 0, none⟩ = some (.bool by') ∧ w'.cell? ⟨n + 1, 1, none⟩ = some (.slice ay ly cy) ∧ Below (n + 1 + 1) W1 w')
    (first | assumption | (with_reducible exact S2.drewC (by assumption)) | (with_reducible exact S2.putC (by assumption)) | (with_reducible exact S2.keepC (by assumption) hN1.out (by assumption)))
    (first | (go_at_call 57; refine (hT1.out _ ?_).mono ?_; exact (by assumption : _ ∧ _ ∧ _ ∧ _ ∧ Below _ _ _).2.2.2.2; rintro e w3 ⟨ta, tc, rfl, hr3, hl3, hbb⟩) | (go_at_call 44; refine (HS.out _ ta tc _ HCN.out.1 hl3 hr3 HCN.out.2.1 HCN.out.2.2).mono ?_; rintro e w4 ⟨ra, rc, rfl, hr4, hc4, hbb4⟩; obtain ⟨r0, r1, r2, r3⟩ := hR1.out _ _ hbb hbb4))
  go_wp2
  refine bodyPost_ret (v := .agg #[.bool (neg (x + y)), .slice ra (E 10 (x + y).natAbs).length rc]) (by simp [results, Try.results25, go_sem, r0, r1]) rfl ?_
  exact hF1.out _ _ ra rc hbb hbb4 hr4 hc4 _ _

set_option maxRecDepth 100000 in
set_option maxHeartbeats 4000000 in
theorem refAdd_lt (x y : Int) (ax ay : Option Addr) (cx cy : Nat) (w : World) (hsx : (E 10 x.natAbs).length ≤ 100000) (hsy : (E 10 y.natAbs).length ≤ 100000) (hrx : Rb w ax (E 10 x.natAbs)) (hry : Rb w ay (E 10 y.natAbs)) (h : neg x ≠ neg y) (hlt : x.natAbs < y.natAbs) :
    Calls Try.prog 25 #[.agg #[.bool (neg x), .slice ax (E 10 x.natAbs).length cx], .agg #[.bool (neg y), .slice ay (E 10 y.natAbs).length cy]] w (NumP (x + y) w) := by
  have hd : (neg x == neg y) = false := by simpa using h
  have HF := Lib.hid (fun (w4 : World) (ra : Option Addr) (rc : Nat) h h1 h2 u0 u1 => numP_R2 (z := x + y) (w := w) (w2 := w4) (n := w.heap.size) (rc := rc) (b0 := neg x) (b1 := neg y) (v0 := (.slice ax (E 10 x.natAbs).length cx)) (v1 := (.slice ay (E 10 y.natAbs).length cy)) (ra := ra) rfl h h1 h2 u0 u1)
  have HX : Hid (∀ W, Below (w.heap.size + 1 + 1) (R2 w (neg x) (neg y) (.slice ax (E 10 x.natAbs).length cx) (.slice ay (E 10 y.natAbs).length cy)) W → Rb W ax (E 10 x.natAbs) ∧ Rb W ay (E 10 y.natAbs)) := Lib.hid fun W hb => ⟨hrx.below ((R2_below w _ _ _ _).trans (hb.mono (by omega))) (Nat.le_refl _), hry.below ((R2_below w _ _ _ _).trans (hb.mono (by omega))) (Nat.le_refl _)⟩
  have HT : Hid (∀ W, Below (w.heap.size + 1 + 1) (R2 w (neg x) (neg y) (.slice ax (E 10 x.natAbs).length cx) (.slice ay (E 10 y.natAbs).length cy)) W → Calls Try.prog 57 #[.slice ay (E 10 y.natAbs).length cy, .slice ax (E 10 x.natAbs).length cx] W (CanP (y.natAbs - x.natAbs) W)) := Lib.hid fun W hb => refMinus_any _ _ (by omega) ay ax cy cx W (HX.out W hb).2 (HX.out W hb).1 hsy
  have HCM : Hid (∀ W, Below (w.heap.size + 1 + 1) (R2 w (neg x) (neg y) (.slice ax (E 10 x.natAbs).length cx) (.slice ay (E 10 y.natAbs).length cy)) W → Calls Try.prog 54 #[.slice ax (E 10 x.natAbs).length cx, .slice ay (E 10 y.natAbs).length cy] W fun e w' => ∃ cc : Int, (cc < 0) ∧ e = .returned (.int .i64 cc) ∧ Below W.heap.size W w') := Lib.hid fun W hb => (refSize_any _ _ ax ay cx cy W (HX.out W hb).1 (HX.out W hb).2 (by omega) (by omega)).mono fun e w' h => ⟨_, by unfold cmpN; rw [if_pos (by omega)]; omega, h.1, h.2⟩
  have HS : Hid (∀ (l : List UInt8) (a : Option Addr) (cap : Nat) W, l.length ≤ 1000000 → l.length ≤ cap → Rb W a l → Dg 10 l → vb 10 l = y.natAbs - x.natAbs → Calls Try.prog 44 #[.slice a l.length cap, .bool (neg y)] W (NumP (x + y) W)) := Lib.hid fun l a cap W h1 h2 h3 h4 h5 => by
    have hq := refSigned_any (neg y) l a cap W h1 h2 h3 h4
    rw [h5, zi_add_lt x y h hlt] at hq; exact hq
  have HS0 : Hid (∀ W1, Below (R2 w (neg x) (neg y) (.slice ax (E 10 x.natAbs).length cx) (.slice ay (E 10 y.natAbs).length cy)).heap.size (R2 w (neg x) (neg y) (.slice ax (E 10 x.natAbs).length cx) (.slice ay (E 10 y.natAbs).length cy)) W1 → S2 W1 w.heap.size (neg x) (neg y) (.slice ax (E 10 x.natAbs).length cx) (.slice ay (E 10 y.natAbs).length cy) W1) := fun W1 h => by
    obtain ⟨h1, h2, h3, h4, h9⟩ := (S2.startR w (neg x) (neg y) (.slice ax (E 10 x.natAbs).length cx) (.slice ay (E 10 y.natAbs).length cy)).keep (by rw [R2_size]; omega) h
    exact ⟨h1, h2, h3, h4, Below.refl _ _⟩
  have HN : Hid (w.heap.size + 1 + 1 < (R2 w (neg x) (neg y) (.slice ax (E 10 x.natAbs).length cx) (.slice ay (E 10 y.natAbs).length cy)).heap.size) := by show _ < _; rw [R2_size]; omega
  have HRES : Hid (∀ W1 w3 w4, Below (R2 w (neg x) (neg y) (.slice ax (E 10 x.natAbs).length cx) (.slice ay (E 10 y.natAbs).length cy)).heap.size (R2 w (neg x) (neg y) (.slice ax (E 10 x.natAbs).length cx) (.slice ay (E 10 y.natAbs).length cy)) W1 → Below W1.drew.heap.size W1.drew w3 → Below w3.heap.size w3 w4 → _) := fun W1 w3 w4 h0 h3 h4 => R2_res w (neg x) (neg y) (.slice ax (E 10 x.natAbs).length cx) (.slice ay (E 10 y.natAbs).length cy) w4 ((h0.drew.trans (h3.mono h0.size)).trans (h4.mono (Nat.le_trans h0.size h3.size)))
  have HE : Hid ((R2 w (neg x) (neg y) (.slice ax (E 10 x.natAbs).length cx) (.slice ay (E 10 y.natAbs).length cy)) = ((w.alloc (.cells #[.bool (neg x), .slice ax (E 10 x.natAbs).length cx] 28)).alloc (.cells #[.bool (neg y), .slice ay (E 10 y.natAbs).length cy] 28)).alloc (.cells #[.bool false, .slice none 0 0] 28)) := rfl
  have HL3 : Hid (∀ l : Nat, l ≤ 200000 → l ≤ 1000000) := Lib.hid fun l h => by omega
  have HCN : Hid ((E 10 (y.natAbs - x.natAbs)).length ≤ 1000000 ∧ Dg 10 (E 10 (y.natAbs - x.natAbs)) ∧ vb 10 (E 10 (y.natAbs - x.natAbs)) = y.natAbs - x.natAbs) := Lib.hid ⟨Nat.le_trans (E_len_mono 10 _ _ (by omega) (Nat.sub_le _ _)) (Nat.le_trans hsy (by omega)), dg_E 10 _ (by omega) (by omega), vb_E 10 _ (by omega) (by omega)⟩
  clear hrx hry
  generalize hW0 : (R2 w (neg x) (neg y) (.slice ax (E 10 x.natAbs).length cx) (.slice ay (E 10 y.natAbs).length cy)) = W0 at *
  clear hW0
  generalize hPo : NumP (x + y) w = Po at *
  clear hPo
  generalize neg x = bx at *
  generalize neg y = by' at *
  generalize hlx : (E 10 x.natAbs).length = lx at *
  generalize hly : (E 10 y.natAbs).length = ly at *
  clear hlx hly
  go_enter Try.func25, Try.ntmps25
  go_wp2_with fail
  rw [← HE.out]
  generalize w.heap.size = n at *
  refine (HCM.out _ (Below.refl _ _)).mono ?_
  rintro e W1 ⟨cc, hc0, rfl, hb1⟩
  have hS0 := Lib.hid (HS0.out W1 hb1)
  have hR1 := Lib.hid (fun w3 w4 h3 h4 => HRES.out W1 w3 w4 hb1 h3 h4)
  have hF1 := Lib.hid (fun w3 w4 ra rc (h3 : Below W1.drew.heap.size W1.drew w3) (h4 : Below w3.heap.size w3 w4) h1 h2 u0 u1 => HF.out w4 ra rc ((hb1.drew.trans (h3.mono hb1.size)).trans (h4.mono (Nat.le_trans hb1.size h3.size))) h1 h2 u0 u1)
  have hN1 : Hid (n + 1 + 1 < W1.heap.size) := Nat.lt_of_lt_of_le HN.out hb1.size
  have hBW : Hid (Below (n + 1 + 1) W0 W1) := hb1.mono (Nat.le_of_lt HN.out)
  obtain ⟨z0, z1, z2, z3, _⟩ := hS0.out
  clear hb1 HRES HF HN
  go_wp2_with fail
  clear z0 z1 z2 z3
  have hT1 : Hid (∀ W, Below (n + 1 + 1) W1 W → Calls Try.prog 57 #[.slice ay ly cy, .slice ax lx cx] W (CanP (y.natAbs - x.natAbs) W)) := fun W h => HT.out W (hBW.out.trans h)
  have hS1 : W1.cell? ⟨n, 0, none⟩ = some (.bool bx) ∧ W1.cell? ⟨n, 1, none⟩ = some (.slice ax lx cx) ∧ W1.cell? ⟨n + 1, 0, none⟩ = some (.bool by') ∧ W1.cell? ⟨n + 1, 1, none⟩ = some (.slice ay ly cy) ∧ Below (n + 1 + 1) W1 W1 := hS0.out
  go_region_held3 (fun w' => w'.cell? ⟨n, 0, none⟩ = some (.bool bx) ∧ w'.cell? ⟨n, 1, none⟩ = some (.slice ax lx cx) ∧ w'.cell? ⟨n + 1, 0, none⟩ = some (.bool by') ∧ w'.cell? ⟨n + 1, 1, none⟩ = some (.slice ay ly cy) ∧ Below (n + 1 + 1) W1 w')
    (first | assumption | (with_reducible exact S2.drewC (by assumption)) | (with_reducible exact S2.putC (by assumption)) | (with_reducible exact S2.keepC (by assumption) hN1.out (by assumption)))
    (first | (go_at_call 57; refine (hT1.out _ ?_).mono ?_; exact (by assumption : _ ∧ _ ∧ _ ∧ _ ∧ Below _ _ _).2.2.2.2; rintro e w3 ⟨ta, tc, rfl, hr3, hl3, hbb⟩) | (go_at_call 44; refine (HS.out _ ta tc _ HCN.out.1 hl3 hr3 HCN.out.2.1 HCN.out.2.2).mono ?_; rintro e w4 ⟨ra, rc, rfl, hr4, hc4, hbb4⟩; obtain ⟨r0, r1, r2, r3⟩ := hR1.out _ _ hbb hbb4))
  go_wp2
  refine bodyPost_ret (v := .agg #[.bool (neg (x + y)), .slice ra (E 10 (x + y).natAbs).length rc]) (by simp [results, Try.results25, go_sem, r0, r1]) rfl ?_
  exact hF1.out _ _ ra rc hbb hbb4 hr4 hc4 _ _
end Go.Proofs.Ytmnopohjnbpinab
