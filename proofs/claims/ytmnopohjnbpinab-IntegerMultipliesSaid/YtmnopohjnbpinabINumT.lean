/-
  Helper: the walk of number.times.
-/
import Derived.Test.YtmnopohjnbpinabISign
import Derived.Test.YtmnopohjnbpinabINat5
import Derived.Deep.RegionHeld3
namespace Go.Proofs.Ytmnopohjnbpinab
open Go.RowKit
set_option linter.unusedVariables false

/-- two numbers in boxes of their own, while the call's region runs -/
def S2 (W0 : World) (n : Nat) (b0 b1 : Bool) (v0 v1 : Value) (w : World) : Prop :=
  w.cell? ⟨n, 0, none⟩ = some (.bool b0) ∧ w.cell? ⟨n, 1, none⟩ = some v0 ∧ w.cell? ⟨n + 1, 0, none⟩ = some (.bool b1) ∧ w.cell? ⟨n + 1, 1, none⟩ = some v1 ∧ Below (n + 1 + 1) W0 w
def W2 (w : World) (b0 b1 : Bool) (v0 v1 : Value) : World := ((w.alloc (.cells #[.bool b0, v0] 70)).alloc (.cells #[.bool b1, v1] 70)).alloc (.cells #[.bool false, .slice none 0 0] 70)
theorem W2_size (w : World) (b0 b1 : Bool) (v0 v1 : Value) : (W2 w b0 b1 v0 v1).heap.size = w.heap.size + 1 + 1 + 1 := by unfold W2; simp
theorem W2_below (w : World) (b0 b1 : Bool) (v0 v1 : Value) : Below w.heap.size w (W2 w b0 b1 v0 v1) := by
  unfold W2; exact (((Below.refl _ w).alloc (Nat.le_refl _) _).alloc (by simp) _).alloc (by simp; omega) _
theorem S2.keep {W0 w w' : World} {n : Nat} {b0 b1 : Bool} {v0 v1 : Value} (h : S2 W0 n b0 b1 v0 v1 w) (hn : n + 1 + 1 < W0.heap.size) (hb : Below w.heap.size w w') : S2 W0 n b0 b1 v0 v1 w' := by
  obtain ⟨h1, h2, h3, h4, h9⟩ := h
  have hs := h9.size
  have hc : ∀ b o, b < n + 1 + 1 → w'.cell? ⟨b, o, none⟩ = w.cell? ⟨b, o, none⟩ := fun b o h => hb.cell (p := ⟨b, o, none⟩) (by show b < _; omega)
  exact ⟨by rw [hc _ _ (by omega)]; exact h1, by rw [hc _ _ (by omega)]; exact h2, by rw [hc _ _ (by omega)]; exact h3, by rw [hc _ _ (by omega)]; exact h4, h9.trans (hb.mono (by omega))⟩
theorem S2.drew {W0 w : World} {n : Nat} {b0 b1 : Bool} {v0 v1 : Value} (h : S2 W0 n b0 b1 v0 v1 w) : S2 W0 n b0 b1 v0 v1 w.drew := by
  obtain ⟨h1, h2, h3, h4, h9⟩ := h
  exact ⟨h1, h2, h3, h4, h9.drew⟩
theorem S2.put {W0 w : World} {n : Nat} {b0 b1 : Bool} {v0 v1 u0 u1 : Value} (h : S2 W0 n b0 b1 v0 v1 w) : S2 W0 n b0 b1 v0 v1 ((w.setCell ⟨n + 1 + 1, 0, none⟩ u0).setCell ⟨n + 1 + 1, 1, none⟩ u1) := by
  obtain ⟨h1, h2, h3, h4, h9⟩ := h
  have hb : Below (n + 1 + 1) w ((w.setCell ⟨n + 1 + 1, 0, none⟩ u0).setCell ⟨n + 1 + 1, 1, none⟩ u1) := ((Below.refl _ w).setCell (p := ⟨n + 1 + 1, 0, none⟩) (Nat.le_refl _) _).setCell (p := ⟨n + 1 + 1, 1, none⟩) (Nat.le_refl _) _
  have hc : ∀ b o, b < n + 1 + 1 → ((w.setCell ⟨n + 1 + 1, 0, none⟩ u0).setCell ⟨n + 1 + 1, 1, none⟩ u1).cell? ⟨b, o, none⟩ = w.cell? ⟨b, o, none⟩ := fun b o h => hb.cell (p := ⟨b, o, none⟩) h
  exact ⟨by rw [hc _ _ (by omega)]; exact h1, by rw [hc _ _ (by omega)]; exact h2, by rw [hc _ _ (by omega)]; exact h3, by rw [hc _ _ (by omega)]; exact h4, h9.trans hb⟩
theorem W2_blocks (w : World) (b0 b1 : Bool) (v0 v1 : Value) : (W2 w b0 b1 v0 v1).heap[w.heap.size]? = some (.cells #[.bool b0, v0] 70) ∧ (W2 w b0 b1 v0 v1).heap[w.heap.size + 1]? = some (.cells #[.bool b1, v1] 70) ∧ (W2 w b0 b1 v0 v1).heap[w.heap.size + 1 + 1]? = some (.cells #[.bool false, .slice none 0 0] 70) := by
  have e2 := heap_alloc_new ((w.alloc (.cells #[.bool b0, v0] 70)).alloc (.cells #[.bool b1, v1] 70)) (.cells #[.bool false, .slice none 0 0] 70)
  have e1 := heap_alloc_new (w.alloc (.cells #[.bool b0, v0] 70)) (.cells #[.bool b1, v1] 70)
  have e0 := heap_alloc_new w (.cells #[.bool b0, v0] 70)
  refine ⟨?_, ?_, ?_⟩
  · unfold W2; rw [Below.heap_alloc _ _ _ (by simp; omega), Below.heap_alloc _ _ _ (by simp)]; exact e0
  · unfold W2; rw [Below.heap_alloc _ _ _ (by simp)]; simpa using e1
  · unfold W2; simpa using e2
theorem S2.start (w : World) (b0 b1 : Bool) (v0 v1 : Value) : S2 (W2 w b0 b1 v0 v1) w.heap.size b0 b1 v0 v1 (W2 w b0 b1 v0 v1) := by
  obtain ⟨g0, g1, g2⟩ := W2_blocks w b0 b1 v0 v1
  refine ⟨?_, ?_, ?_, ?_, Below.refl _ _⟩
  · simp [World.cell?, g0]
  · simp [World.cell?, g0]
  · simp [World.cell?, g1]
  · simp [World.cell?, g1]
/-- the result's box, as it was made -/
theorem W2_res (w : World) (b0 b1 : Bool) (v0 v1 : Value) (w' : World) (h : Below (W2 w b0 b1 v0 v1).heap.size (W2 w b0 b1 v0 v1) w') :
    w'.cell? ⟨w.heap.size + 1 + 1, 0, none⟩ = some (.bool false) ∧ w'.cell? ⟨w.heap.size + 1 + 1, 1, none⟩ = some (.slice none 0 0) ∧ w'.frozen? ⟨w.heap.size + 1 + 1, 0, none⟩ = false ∧ w'.frozen? ⟨w.heap.size + 1 + 1, 1, none⟩ = false := by
  have g2 := (h.block (w.heap.size + 1 + 1) (by rw [W2_size]; omega)).trans (W2_blocks w b0 b1 v0 v1).2.2
  refine ⟨?_, ?_, ?_, ?_⟩
  · simp [World.cell?, g2]
  · simp [World.cell?, g2]
  · simp [World.frozen?, g2]
  · simp [World.frozen?, g2]
/-- the result is stored into its box -/
theorem numP_S2 {z : Int} {w w2 : World} {n rc : Nat} {b0 b1 : Bool} {v0 v1 : Value} {ra : Option Addr} (hn : n = w.heap.size) (h : Below (W2 w b0 b1 v0 v1).heap.size (W2 w b0 b1 v0 v1) w2)
    (h1 : Rb w2 ra (E 10 z.natAbs)) (h2 : (E 10 z.natAbs).length ≤ rc) (u0 u1 : Value) : NumP z w (.returned (.agg #[.bool (neg z), .slice ra (E 10 z.natAbs).length rc])) ((w2.setCell ⟨n + 1 + 1, 0, none⟩ u0).setCell ⟨n + 1 + 1, 1, none⟩ u1) := by
  refine numP_box (X := (w.alloc (.cells #[.bool b0, v0] 70)).alloc (.cells #[.bool b1, v1] 70)) (((Below.refl _ w).alloc (Nat.le_refl _) _).alloc (by simp) _) (by subst hn; simp) h h1 h2 u0 u1

theorem numP_S2z {B : Bool} {N : Nat} {w W1 w3 w4 : World} {rc : Nat} {b0 b1 : Bool} {v0 v1 : Value} {ra : Option Addr} (h0 : Below (W2 w b0 b1 v0 v1).heap.size (W2 w b0 b1 v0 v1) W1) (h3 : Below W1.drew.heap.size W1.drew w3) (h4 : Below w3.heap.size w3 w4)
    (h1 : Rb w3 ra (E 10 N)) (h2 : (E 10 N).length ≤ rc) (u0 u1 : Value) : NumP (zi B N) w (.returned (.agg #[.bool (sg B N), .slice ra (E 10 N).length rc])) ((w4.setCell ⟨w.heap.size + 1 + 1, 0, none⟩ u0).setCell ⟨w.heap.size + 1 + 1, 1, none⟩ u1) := by
  have := numP_S2 (z := zi B N) (w := w) (w2 := w4) (n := w.heap.size) (rc := rc) (b0 := b0) (b1 := b1) (v0 := v0) (v1 := v1) (ra := ra) rfl ((h0.drew.trans (h3.mono h0.size)).trans (h4.mono (Nat.le_trans h0.size h3.size))) (by rw [zi_abs]; exact h1.go h4) (by rw [zi_abs]; exact h2) u0 u1
  rw [zi_abs, show neg (zi B N) = sg B N from zi_neg B N] at this
  exact this
theorem zi_mul (x y : Int) : zi (neg x != neg y) (x.natAbs * y.natAbs) = x * y := by
  rw [← Int.natAbs_mul]
  unfold zi neg
  by_cases hx : x < 0 <;> by_cases hy : y < 0
  · have : 0 ≤ x * y := Int.mul_nonneg_of_nonpos_of_nonpos (by omega) (by omega)
    simp [hx, hy]; omega
  · have : x * y ≤ 0 := Int.mul_nonpos_of_nonpos_of_nonneg (by omega) (by omega)
    simp [hx, hy]; omega
  · have : x * y ≤ 0 := Int.mul_nonpos_of_nonneg_of_nonpos (by omega) (by omega)
    simp [hx, hy]; omega
  · have : 0 ≤ x * y := Int.mul_nonneg (by omega) (by omega)
    simp [hx, hy]; omega

set_option maxRecDepth 100000 in
set_option maxHeartbeats 4000000 in
theorem ntimes_any (x y : Int) (ax ay : Option Addr) (cx cy : Nat) (w : World) (hsx : (E 10 x.natAbs).length ≤ 100000) (hsy : (E 10 y.natAbs).length ≤ 100000) (hrx : Rb w ax (E 10 x.natAbs)) (hry : Rb w ay (E 10 y.natAbs)) :
    Calls Try.prog 58 #[.agg #[.bool (neg x), .slice ax (E 10 x.natAbs).length cx], .agg #[.bool (neg y), .slice ay (E 10 y.natAbs).length cy]] w (NumP (x * y) w) := by
  have hlen : (E 10 (x.natAbs * y.natAbs)).length ≤ 1000000 := by
    have h1 := (E_len_le 10 x.natAbs _ (by omega)).1 (Nat.le_refl _)
    have h2 := (E_len_le 10 y.natAbs _ (by omega)).1 (Nat.le_refl _)
    have h3 : x.natAbs * y.natAbs < 10 ^ ((E 10 x.natAbs).length + (E 10 y.natAbs).length) := by
      rw [Nat.pow_add]
      exact Nat.mul_lt_mul'' h1 h2
    exact Nat.le_trans ((E_len_le 10 _ _ (by omega)).2 h3) (by omega)
  rw [← zi_mul x y]
  have HF := Lib.hid (fun (w3 w4 : World) (ra : Option Addr) (rc : Nat) h3 h4 h1 h2 u0 u1 => numP_S2z (B := neg x != neg y) (N := x.natAbs * y.natAbs) (w := w) (w3 := w3) (w4 := w4) (rc := rc) (b0 := neg x) (b1 := neg y) (v0 := .slice ax (E 10 x.natAbs).length cx) (v1 := .slice ay (E 10 y.natAbs).length cy) (ra := ra) (Below.refl _ _) h3 h4 h1 h2 u0 u1)
  have HT : Hid (∀ W, Below (w.heap.size + 1 + 1) (W2 w (neg x) (neg y) (.slice ax (E 10 x.natAbs).length cx) (.slice ay (E 10 y.natAbs).length cy)) W → Calls Try.prog 71 #[.slice ax (E 10 x.natAbs).length cx, .slice ay (E 10 y.natAbs).length cy] W (NatP (x.natAbs * y.natAbs) W)) := fun W hb =>
    times_any _ _ ax ay cx cy W (hrx.below ((W2_below w _ _ _ _).trans (hb.mono (by omega))) (Nat.le_refl _)) (hry.below ((W2_below w _ _ _ _).trans (hb.mono (by omega))) (Nat.le_refl _)) hsx hsy
  have HS := Lib.hid (fun a cap W => signed_any (neg x != neg y) (x.natAbs * y.natAbs) a cap W hlen)
  have HS0 := S2.start w (neg x) (neg y) (.slice ax (E 10 x.natAbs).length cx) (.slice ay (E 10 y.natAbs).length cy)
  have HN : Hid (w.heap.size + 1 + 1 < (W2 w (neg x) (neg y) (.slice ax (E 10 x.natAbs).length cx) (.slice ay (E 10 y.natAbs).length cy)).heap.size) := by show _ < _; rw [W2_size]; omega
  have HRES : Hid (∀ w3 w4, Below (W2 w (neg x) (neg y) (.slice ax (E 10 x.natAbs).length cx) (.slice ay (E 10 y.natAbs).length cy)).drew.heap.size (W2 w (neg x) (neg y) (.slice ax (E 10 x.natAbs).length cx) (.slice ay (E 10 y.natAbs).length cy)).drew w3 → Below w3.heap.size w3 w4 → _) := fun w3 w4 h3 h4 => W2_res w (neg x) (neg y) (.slice ax (E 10 x.natAbs).length cx) (.slice ay (E 10 y.natAbs).length cy) w4 (((Below.refl _ _).drew.trans h3).trans (h4.mono h3.size))
  have HE : Hid (W2 w (neg x) (neg y) (.slice ax (E 10 x.natAbs).length cx) (.slice ay (E 10 y.natAbs).length cy) = ((w.alloc (.cells #[.bool (neg x), .slice ax (E 10 x.natAbs).length cx] 70)).alloc (.cells #[.bool (neg y), .slice ay (E 10 y.natAbs).length cy] 70)).alloc (.cells #[.bool false, .slice none 0 0] 70)) := rfl
  clear hrx hry hlen
  generalize hW0 : W2 w (neg x) (neg y) (.slice ax (E 10 x.natAbs).length cx) (.slice ay (E 10 y.natAbs).length cy) = W0 at *
  clear hW0
  generalize hPo : NumP (zi (neg x != neg y) (x.natAbs * y.natAbs)) w = Po at *
  clear hPo
  generalize neg x = bx at *
  generalize neg y = by' at *
  generalize (E 10 x.natAbs).length = lx at *
  generalize (E 10 y.natAbs).length = ly at *
  have HS1 := Lib.hid HS0
  clear HS0
  go_enter Try.func58, Try.ntmps58
  go_wp2_with fail
  rw [← HE.out]
  generalize w.heap.size = n at *
  have HS0 : W0.cell? ⟨n, 0, none⟩ = some (.bool bx) ∧ W0.cell? ⟨n, 1, none⟩ = some (.slice ax lx cx) ∧ W0.cell? ⟨n + 1, 0, none⟩ = some (.bool by') ∧ W0.cell? ⟨n + 1, 1, none⟩ = some (.slice ay ly cy) ∧ Below (n + 1 + 1) W0 W0 := HS1.out
  go_region_held3 (fun w' => w'.cell? ⟨n, 0, none⟩ = some (.bool bx) ∧ w'.cell? ⟨n, 1, none⟩ = some (.slice ax lx cx) ∧ w'.cell? ⟨n + 1, 0, none⟩ = some (.bool by') ∧ w'.cell? ⟨n + 1, 1, none⟩ = some (.slice ay ly cy) ∧ Below (n + 1 + 1) W0 w')
    (first | assumption | exact S2.drew (by assumption) | exact S2.put (by assumption) | exact S2.keep (by assumption) HN.out (by assumption))
    (first | (go_at_call 71; refine (HT.out _ ?_).mono ?_; exact (by assumption : S2 _ _ _ _ _ _ _).2.2.2.2; rintro e w3 ⟨ta, tc, rfl, hr3, hl3, _, hbb⟩) | (go_at_call 67; refine (HS.out _ _ _).mono ?_; rintro e w4 ⟨rfl, hbb4⟩; obtain ⟨r0, r1, r2, r3⟩ := HRES.out _ _ hbb hbb4))
  go_wp2
  refine bodyPost_ret (v := .agg #[.bool (sg (bx != by') (x.natAbs * y.natAbs)), .slice ta (E 10 (x.natAbs * y.natAbs)).length tc]) (by simp [results, Try.results58, go_sem, r0, r1]) rfl ?_
  exact HF.out _ _ ta tc hbb hbb4 hr3 hl3 _ _
end Go.Proofs.Ytmnopohjnbpinab
