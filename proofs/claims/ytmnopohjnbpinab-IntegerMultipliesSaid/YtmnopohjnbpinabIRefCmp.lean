/-
  Helper: the walk of the reference's Cmp; its Add in one piece; boxes of two integers.
-/
import Derived.Test.YtmnopohjnbpinabIRefAdd
import Derived.Test.YtmnopohjnbpinabIAgree
namespace Go.Proofs.Ytmnopohjnbpinab
open Go.RowKit
set_option linter.unusedVariables false

set_option maxRecDepth 100000 in
set_option maxHeartbeats 4000000 in
theorem refCmp_any (x y : Int) (ax ay : Option Addr) (cx cy : Nat) (w : World) (hsx : (E 10 x.natAbs).length ≤ 100000) (hsy : (E 10 y.natAbs).length ≤ 100000) (hrx : Rb w ax (E 10 x.natAbs)) (hry : Rb w ay (E 10 y.natAbs)) :
    Calls Try.prog 21 #[.agg #[.bool (neg x), .slice ax (E 10 x.natAbs).length cx], .agg #[.bool (neg y), .slice ay (E 10 y.natAbs).length cy]] w (IntP (cmpZ x y) w) := by
  have HXY : Hid (∀ W, Below w.heap.size w W → Calls Try.prog 54 #[.slice ax (E 10 x.natAbs).length cx, .slice ay (E 10 y.natAbs).length cy] W (IntP (cmpN x.natAbs y.natAbs) W)) := fun W hb => refSize_any _ _ ax ay cx cy W (hrx.go hb) (hry.go hb) (by omega) (by omega)
  have HYX : Hid (∀ W, Below w.heap.size w W → Calls Try.prog 54 #[.slice ay (E 10 y.natAbs).length cy, .slice ax (E 10 x.natAbs).length cx] W (IntP (cmpN y.natAbs x.natAbs) W)) := fun W hb => refSize_any _ _ ay ax cy cx W (hry.go hb) (hrx.go hb) (by omega) (by omega)
  have HF : Hid (∀ w', Below w.heap.size w w' → IntP (cmpZ x y) w (.returned (.int .i64 (cmpZ x y))) w') := fun w' h => ⟨rfl, h⟩
  have HB : Hid (∀ v v' t, Below w.heap.size w ((w.alloc (.cells v t)).alloc (.cells v' t))) := fun v v' t => ((Below.refl _ w).alloc (Nat.le_refl _) _).alloc (by simp) _
  clear hrx hry hsx hsy
  generalize hPo : IntP (cmpZ x y) w = Po at *
  clear hPo
  generalize hlx : (E 10 x.natAbs).length = lx at *
  generalize hly : (E 10 y.natAbs).length = ly at *
  clear hlx hly
  cases hx : neg x <;> cases hy : neg y
  · rw [cmpZ_pp x y hx hy] at HF
    clear hx hy
    generalize cmpN x.natAbs y.natAbs = k at *
    generalize cmpN y.natAbs x.natAbs = k' at *
    go_enter Try.func21, Try.ntmps21
    have hb2 := HB.out
    go_wp2_with fail
    refine (HXY.out _ (HB.out _ _ _)).mono ?_
    rintro e w3 ⟨rfl, h3⟩
    have hfin := Lib.hid (HF.out w3 ((HB.out _ _ _).trans (h3.mono (HB.out _ _ _).size)))
    clear h3
    go_wp2
    exact hfin.out
  · rw [cmpZ_pn x y hx hy] at HF
    clear hx hy HXY HYX
    go_enter Try.func21, Try.ntmps21
    go_wp2
    exact HF.out _ (HB.out _ _ _)
  · rw [cmpZ_np x y hx hy] at HF
    clear hx hy HXY HYX
    go_enter Try.func21, Try.ntmps21
    go_wp2
    exact HF.out _ (HB.out _ _ _)
  · rw [cmpZ_nn x y hx hy] at HF
    clear hx hy
    generalize cmpN x.natAbs y.natAbs = k at *
    generalize cmpN y.natAbs x.natAbs = k' at *
    go_enter Try.func21, Try.ntmps21
    go_wp2_with fail
    refine (HYX.out _ (HB.out _ _ _)).mono ?_
    rintro e w3 ⟨rfl, h3⟩
    have hfin := Lib.hid (HF.out w3 ((HB.out _ _ _).trans (h3.mono (HB.out _ _ _).size)))
    clear h3
    go_wp2
    exact hfin.out


theorem refAdd_any (x y : Int) (ax ay : Option Addr) (cx cy : Nat) (w : World) (hsx : (E 10 x.natAbs).length ≤ 100000) (hsy : (E 10 y.natAbs).length ≤ 100000) (hrx : Rb w ax (E 10 x.natAbs)) (hry : Rb w ay (E 10 y.natAbs)) :
    Calls Try.prog 25 #[.agg #[.bool (neg x), .slice ax (E 10 x.natAbs).length cx], .agg #[.bool (neg y), .slice ay (E 10 y.natAbs).length cy]] w (NumP (x + y) w) := by
  by_cases h : neg x = neg y
  · exact refAdd_same x y ax ay cx cy w hsx hsy hrx hry h
  · by_cases hg : y.natAbs ≤ x.natAbs
    · exact refAdd_ge x y ax ay cx cy w hsx hsy hrx hry h hg
    · exact refAdd_lt x y ax ay cx cy w hsx hsy hrx hry h (by omega)
theorem agreeU (r : Int) (a : Option Addr) (cap : Nat) (w : World) (hr : Rb w a (E 10 r.natAbs)) :
    Calls Try.prog 11 #[.string (ov r), .int .i64 (oe r), .agg #[.bool (neg r), .slice a (E 10 r.natAbs).length cap], .int .i64 0] w (TrueP w) := by
  by_cases h : Sh r
  · rw [ov_yes h, oe_yes h]; exact agree_ok r h a cap w hr
  · rw [ov_no h, oe_no h]; exact agree_long r h a cap w
theorem S2.keepL {W0 w w' : World} {n : Nat} {b0 b1 : Bool} {v0 v1 : Value} (hb : Below w.heap.size w w') (hn : n + 1 + 1 ≤ W0.heap.size) (h : w.cell? ⟨n, 0, none⟩ = some (.bool b0) ∧ w.cell? ⟨n, 1, none⟩ = some v0 ∧ w.cell? ⟨n + 1, 0, none⟩ = some (.bool b1) ∧ w.cell? ⟨n + 1, 1, none⟩ = some v1 ∧ Below (n + 1 + 1) W0 w) : w'.cell? ⟨n, 0, none⟩ = some (.bool b0) ∧ w'.cell? ⟨n, 1, none⟩ = some v0 ∧ w'.cell? ⟨n + 1, 0, none⟩ = some (.bool b1) ∧ w'.cell? ⟨n + 1, 1, none⟩ = some v1 ∧ Below (n + 1 + 1) W0 w' := by
  obtain ⟨h1, h2, h3, h4, h9⟩ := h
  have hs := h9.size
  have hc : ∀ b o, b < n + 1 + 1 → w'.cell? ⟨b, o, none⟩ = w.cell? ⟨b, o, none⟩ := fun b o h => hb.cell (p := ⟨b, o, none⟩) (by show b < _; omega)
  exact ⟨by rw [hc _ _ (by omega)]; exact h1, by rw [hc _ _ (by omega)]; exact h2, by rw [hc _ _ (by omega)]; exact h3, by rw [hc _ _ (by omega)]; exact h4, h9.trans (hb.mono (by omega))⟩
theorem two_boxes (w : World) (b0 b1 : Bool) (v0 v1 : Value) (t : Nat) (W : World) (hW : W = (w.alloc (.cells #[.bool b0, v0] t)).alloc (.cells #[.bool b1, v1] t)) :
    (W.cell? ⟨w.heap.size, 0, none⟩ = some (.bool b0) ∧ W.cell? ⟨w.heap.size, 1, none⟩ = some v0 ∧ W.cell? ⟨w.heap.size + 1, 0, none⟩ = some (.bool b1) ∧ W.cell? ⟨w.heap.size + 1, 1, none⟩ = some v1) ∧ Below w.heap.size w W ∧ w.heap.size + 1 + 1 = W.heap.size := by
  subst hW
  have e1 := heap_alloc_new (w.alloc (.cells #[.bool b0, v0] t)) (.cells #[.bool b1, v1] t)
  have e0 := heap_alloc_new w (.cells #[.bool b0, v0] t)
  have g0 : ((w.alloc (.cells #[.bool b0, v0] t)).alloc (.cells #[.bool b1, v1] t)).heap[w.heap.size]? = some (.cells #[.bool b0, v0] t) := by
    rw [Below.heap_alloc _ _ _ (by simp)]; exact e0
  have g1 : ((w.alloc (.cells #[.bool b0, v0] t)).alloc (.cells #[.bool b1, v1] t)).heap[w.heap.size + 1]? = some (.cells #[.bool b1, v1] t) := by
    rw [World.size_alloc] at e1; exact e1
  refine ⟨⟨?_, ?_, ?_, ?_⟩, ((Below.refl _ w).alloc (Nat.le_refl _) _).alloc (by simp) _, by simp⟩
  · unfold World.cell?; rw [g0]; rfl
  · unfold World.cell?; rw [g0]; rfl
  · unfold World.cell?; rw [g1]; rfl
  · unfold World.cell?; rw [g1]; rfl
end Go.Proofs.Ytmnopohjnbpinab
