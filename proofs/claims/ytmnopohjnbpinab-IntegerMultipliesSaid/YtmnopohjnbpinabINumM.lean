/-
  Helper: the walk of number.minus.
-/
import Derived.Test.YtmnopohjnbpinabINumA
namespace Go.Proofs.Ytmnopohjnbpinab
open Go.RowKit
set_option linter.unusedVariables false

set_option maxRecDepth 100000 in
set_option maxHeartbeats 4000000 in
theorem nminus_any (x y : Int) (ax ay : Option Addr) (cx cy : Nat) (w : World) (hsx : (E 10 x.natAbs).length ≤ 100000) (hsy : (E 10 y.natAbs).length ≤ 100000) (hrx : Rb w ax (E 10 x.natAbs)) (hry : Rb w ay (E 10 y.natAbs)) (hcy : (E 10 y.natAbs).length ≤ cy) :
    Calls Try.prog 52 #[.agg #[.bool (neg x), .slice ax (E 10 x.natAbs).length cx], .agg #[.bool (neg y), .slice ay (E 10 y.natAbs).length cy]] w (NumP (x + -y) w) := by
  have HF := Lib.hid (fun (w3 w4 : World) (ra : Option Addr) (rc : Nat) (h3 : Below (W2 w (neg x) (neg y) (.slice ax (E 10 x.natAbs).length cx) (.slice ay (E 10 y.natAbs).length cy)).drew.heap.size (W2 w (neg x) (neg y) (.slice ax (E 10 x.natAbs).length cx) (.slice ay (E 10 y.natAbs).length cy)).drew w3) (h4 : Below w3.heap.size w3 w4) h1 h2 u0 u1 => numP_S2 (z := x + -y) (w := w) (w2 := w4) (n := w.heap.size) (rc := rc) (b0 := neg x) (b1 := neg y) (v0 := (.slice ax (E 10 x.natAbs).length cx)) (v1 := (.slice ay (E 10 y.natAbs).length cy)) (ra := ra) rfl (((Below.refl _ _).drew.trans h3).trans (h4.mono h3.size)) h1 h2 u0 u1)
  have HT : Hid (∀ W, Below (w.heap.size + 1 + 1) (W2 w (neg x) (neg y) (.slice ax (E 10 x.natAbs).length cx) (.slice ay (E 10 y.natAbs).length cy)) W → Calls Try.prog 55 #[.agg #[.bool (neg y), .slice ay (E 10 y.natAbs).length cy]] W (NumP (-y) W)) := fun W hb =>
    negated_any y ay cy W (by omega) (hry.below ((W2_below w _ _ _ _).trans (hb.mono (by omega))) (Nat.le_refl _)) hcy
  have HP : Hid (∀ W ra rc, Below (w.heap.size + 1 + 1) (W2 w (neg x) (neg y) (.slice ax (E 10 x.natAbs).length cx) (.slice ay (E 10 y.natAbs).length cy)) W → Rb W ra (E 10 (-y).natAbs) → Calls Try.prog 51 #[.agg #[.bool (neg x), .slice ax (E 10 x.natAbs).length cx], .agg #[.bool (neg (-y)), .slice ra (E 10 (-y).natAbs).length rc]] W (NumP (x + -y) W)) := fun W ra rc hb hr =>
    nplus_any x (-y) ax ra cx rc W hsx (by rw [Int.natAbs_neg]; exact hsy) (hrx.below ((W2_below w _ _ _ _).trans (hb.mono (by omega))) (Nat.le_refl _)) hr
  have HS0 := S2.start w (neg x) (neg y) (.slice ax (E 10 x.natAbs).length cx) (.slice ay (E 10 y.natAbs).length cy)
  have HN : Hid (w.heap.size + 1 + 1 < (W2 w (neg x) (neg y) (.slice ax (E 10 x.natAbs).length cx) (.slice ay (E 10 y.natAbs).length cy)).heap.size) := by show _ < _; rw [W2_size]; omega
  have HRES : Hid (∀ w3 w4, Below (W2 w (neg x) (neg y) (.slice ax (E 10 x.natAbs).length cx) (.slice ay (E 10 y.natAbs).length cy)).drew.heap.size (W2 w (neg x) (neg y) (.slice ax (E 10 x.natAbs).length cx) (.slice ay (E 10 y.natAbs).length cy)).drew w3 → Below w3.heap.size w3 w4 → _) := fun w3 w4 h3 h4 => W2_res w (neg x) (neg y) (.slice ax (E 10 x.natAbs).length cx) (.slice ay (E 10 y.natAbs).length cy) w4 (((Below.refl _ _).drew.trans h3).trans (h4.mono h3.size))
  have HE : Hid ((W2 w (neg x) (neg y) (.slice ax (E 10 x.natAbs).length cx) (.slice ay (E 10 y.natAbs).length cy)) = ((w.alloc (.cells #[.bool (neg x), .slice ax (E 10 x.natAbs).length cx] 70)).alloc (.cells #[.bool (neg y), .slice ay (E 10 y.natAbs).length cy] 70)).alloc (.cells #[.bool false, .slice none 0 0] 70)) := rfl
  clear hrx hry
  generalize hv : -y = v at *
  clear hv
  generalize hW0 : (W2 w (neg x) (neg y) (.slice ax (E 10 x.natAbs).length cx) (.slice ay (E 10 y.natAbs).length cy)) = W0 at *
  clear hW0
  generalize hPo : NumP (x + v) w = Po at *
  clear hPo
  generalize neg x = bx at *
  generalize neg y = by' at *
  generalize (E 10 x.natAbs).length = lx at *
  generalize (E 10 y.natAbs).length = ly at *
  have HS1 := Lib.hid HS0
  clear HS0
  go_enter Try.func52, Try.ntmps52
  go_wp2_with fail
  rw [← HE.out]
  generalize w.heap.size = n at *
  have HS0 : W0.cell? ⟨n, 0, none⟩ = some (.bool bx) ∧ W0.cell? ⟨n, 1, none⟩ = some (.slice ax lx cx) ∧ W0.cell? ⟨n + 1, 0, none⟩ = some (.bool by') ∧ W0.cell? ⟨n + 1, 1, none⟩ = some (.slice ay ly cy) ∧ Below (n + 1 + 1) W0 W0 := HS1.out
  go_region_held3 (fun w' => w'.cell? ⟨n, 0, none⟩ = some (.bool bx) ∧ w'.cell? ⟨n, 1, none⟩ = some (.slice ax lx cx) ∧ w'.cell? ⟨n + 1, 0, none⟩ = some (.bool by') ∧ w'.cell? ⟨n + 1, 1, none⟩ = some (.slice ay ly cy) ∧ Below (n + 1 + 1) W0 w')
    (first | assumption | exact S2.drew (by assumption) | exact S2.put (by assumption) | exact S2.keep (by assumption) HN.out (by assumption))
    (first | (go_at_call 55; refine (HT.out _ ?_).mono ?_; exact (by assumption : S2 _ _ _ _ _ _ _).2.2.2.2; rintro e w3 ⟨ta, tc, rfl, hr3, hl3, hbb⟩) | (go_at_call 51; refine (HP.out _ _ _ ?_ hr3).mono ?_; exact (by assumption : S2 _ _ _ _ _ _ _).2.2.2.2; rintro e w4 ⟨pa, pc, rfl, hr4, hl4, hbb4⟩; obtain ⟨r0, r1, r2, r3⟩ := HRES.out _ _ hbb hbb4))
  go_wp2
  refine bodyPost_ret (v := .agg #[.bool (neg (x + v)), .slice pa (E 10 (x + v).natAbs).length pc]) (by simp [results, Try.results52, go_sem, r0, r1]) rfl ?_
  exact HF.out _ _ pa pc hbb hbb4 hr4 hl4 _ _
end Go.Proofs.Ytmnopohjnbpinab
