/-
  Helper: the walks of signed, number.negated, number.isZero, number.compare.
-/
import Derived.Test.YtmnopohjnbpinabINat1
namespace Go.Proofs.Ytmnopohjnbpinab
open Go.RowKit
set_option linter.unusedVariables false

def sg (b : Bool) (n : Nat) : Bool := b && decide (0 < n)
/-- the integer with a sign and a magnitude -/
def zi (b : Bool) (n : Nat) : Int := if b then -(n : Int) else n
theorem zi_abs (b : Bool) (n : Nat) : (zi b n).natAbs = n := by unfold zi; cases b <;> simp
theorem zi_neg (b : Bool) (n : Nat) : decide (zi b n < 0) = sg b n := by
  unfold zi sg; cases b <;> simp
def neg (z : Int) : Bool := decide (z < 0)
theorem zi_self (z : Int) : zi (neg z) z.natAbs = z := by
  unfold zi neg
  by_cases h : z < 0
  · rw [if_pos (by simpa using h)]; omega
  · rw [if_neg (by simpa using h)]; omega
theorem len_pos (n : Nat) (h : n ≠ 0) : 0 < (E 10 n).length := by
  have := (E_nil 10 n (by omega))
  rcases Nat.eq_zero_or_pos (E 10 n).length with h0 | h0
  · exact absurd (this.1 (List.length_eq_zero_iff.1 h0)) h
  · exact h0
/-- a number comes back: its sign and its digits -/
def SigP (b : Bool) (n : Nat) (a : Option Addr) (cap : Nat) (w : World) (e : Ending) (w' : World) : Prop := e = .returned (.agg #[.bool (sg b n), .slice a (E 10 n).length cap]) ∧ Below w.heap.size w w'
set_option maxHeartbeats 1000000 in
theorem signed_any (b : Bool) (n : Nat) (a : Option Addr) (cap : Nat) (w : World) (hs : (E 10 n).length ≤ 1000000) :
    Calls Try.prog 67 #[.bool b, .slice a (E 10 n).length cap] w (SigP b n a cap w) := by
  have hz := Lib.hid (show n = 0 → (E 10 n).length = 0 from fun h => by rw [h]; rfl)
  have hp := Lib.hid (len_pos n)
  have HB : Hid (∀ v, Below w.heap.size w ((w.alloc (.cells v 70)))) := fun v => (Below.refl _ w).alloc (Nat.le_refl _) _
  cases b with
  | false =>
    have hfin : Hid (∀ w', Below w.heap.size w w' → SigP false n a cap w (.returned (.agg #[.bool false, .slice a (E 10 n).length cap])) w') := fun w' h => ⟨rfl, h⟩
    generalize SigP false n a cap w = Po at *
    generalize (E 10 n).length = l at *
    go_enter Try.func67, Try.ntmps67
    go_wp2
    refine bodyPost_ret (v := .agg #[.bool false, .slice a l cap]) (by simp [results, Try.results67, go_sem]) rfl (hfin.out _ ?_)
    exact HB.out _
  | true =>
    by_cases h0 : n = 0
    · subst h0
      have hfin : Hid (∀ w', Below w.heap.size w w' → SigP true 0 a cap w (.returned (.agg #[.bool false, .slice a 0 cap])) w') := fun w' h => ⟨rfl, h⟩
      clear hz hp
      rw [show (E 10 0).length = 0 from rfl]
      generalize SigP true 0 a cap w = Po at *
      go_enter Try.func67, Try.ntmps67
      go_wp2
      refine bodyPost_ret (v := .agg #[.bool false, .slice a 0 cap]) (by simp [results, Try.results67, go_sem]) rfl (hfin.out _ ?_)
      exact HB.out _
    · have hfin : Hid (∀ w', Below w.heap.size w w' → SigP true n a cap w (.returned (.agg #[.bool true, .slice a (E 10 n).length cap])) w') := fun w' h => ⟨by unfold sg; rw [decide_eq_true (by omega)]; rfl, h⟩
      have hl : 0 < (E 10 n).length := hp.out h0
      clear hz hp h0
      generalize SigP true n a cap w = Po at *
      generalize (E 10 n).length = l at *
      go_enter Try.func67, Try.ntmps67
      go_wp2
      refine bodyPost_ret (v := .agg #[.bool true, .slice a l cap]) (by simp [results, Try.results67, go_sem]) rfl (hfin.out _ ?_)
      exact HB.out _

/-- a number comes back: an integer -/
def NumP (z : Int) (w : World) (e : Ending) (w' : World) : Prop := ∃ a cap, e = .returned (.agg #[.bool (neg z), .slice a (E 10 z.natAbs).length cap]) ∧ Rb w' a (E 10 z.natAbs) ∧ (E 10 z.natAbs).length ≤ cap ∧ Below w.heap.size w w'
theorem numP_box {z : Int} {w w2 X : World} {n t n0 c0 rc : Nat} {b0 : Bool} {a0 ra : Option Addr} (hwX : Below w.heap.size w X) (hn : X.heap.size = n) (hx : Below (X.alloc (.cells #[.bool b0, .slice a0 n0 c0] t)).heap.size (X.alloc (.cells #[.bool b0, .slice a0 n0 c0] t)) w2)
    (h1 : Rb w2 ra (E 10 z.natAbs)) (h2 : (E 10 z.natAbs).length ≤ rc) (v0 v1 : Value) : NumP z w (.returned (.agg #[.bool (neg z), .slice ra (E 10 z.natAbs).length rc])) ((w2.setCell ⟨n, 0, none⟩ v0).setCell ⟨n, 1, none⟩ v1) := by
  subst hn
  have hh := heap_alloc_new X (.cells #[.bool b0, .slice a0 n0 c0] t)
  have h3 := (hx.block X.heap.size (by simp)).trans hh
  have hb : Below w.heap.size w w2 := (hwX.alloc hwX.size _).trans (hx.mono (by have := hwX.size; simp; omega))
  have hp := heap_put2 w2 X.heap.size v0 v1
  refine ⟨ra, rc, rfl, h1.boxed X.heap.size h3 hp.1 hp.2, h2, (hb.setCell hwX.size _).setCell hwX.size _⟩
theorem numP_sig {b : Bool} {n : Nat} {a : Option Addr} {cap : Nat} {w w' : World} {e : Ending} (h : SigP b n a cap w e w') (hr : Rb w a (E 10 n)) (hl : (E 10 n).length ≤ cap) : NumP (zi b n) w e w' := by
  obtain ⟨rfl, hb⟩ := h
  refine ⟨a, cap, ?_, ?_, ?_, hb⟩
  · rw [zi_abs, show neg (zi b n) = sg b n from zi_neg b n]
  · rw [zi_abs]; exact hr.go hb
  · rw [zi_abs]; exact hl
theorem signed_num (b : Bool) (n : Nat) (a : Option Addr) (cap : Nat) (w : World) (hs : (E 10 n).length ≤ 1000000) (hr : Rb w a (E 10 n)) (hl : (E 10 n).length ≤ cap) :
    Calls Try.prog 67 #[.bool b, .slice a (E 10 n).length cap] w (NumP (zi b n) w) :=
  (signed_any b n a cap w hs).mono fun e w' h => numP_sig h hr hl
theorem zi_flip (z : Int) : zi (!neg z) z.natAbs = -z := by
  unfold zi neg
  by_cases h : z < 0
  · rw [decide_eq_true h, if_neg (by decide)]; omega
  · rw [decide_eq_false h, if_pos (by decide)]; omega

set_option maxRecDepth 100000 in
set_option maxHeartbeats 1000000 in
theorem negated_any (z : Int) (a : Option Addr) (cap : Nat) (w : World) (hs : (E 10 z.natAbs).length ≤ 1000000) (hr : Rb w a (E 10 z.natAbs)) (hl : (E 10 z.natAbs).length ≤ cap) :
    Calls Try.prog 55 #[.agg #[.bool (neg z), .slice a (E 10 z.natAbs).length cap]] w (NumP (-z) w) := by
  have HR := Lib.hid hr
  have HF := Lib.hid (fun (w2 X : World) (n t n0 c0 rc : Nat) (b0 : Bool) (a0 ra : Option Addr) hwX hn hx h1 h2 v0 v1 => numP_box (z := -z) (w := w) (w2 := w2) (X := X) (n := n) (t := t) (n0 := n0) (c0 := c0) (rc := rc) (b0 := b0) (a0 := a0) (ra := ra) hwX hn hx h1 h2 v0 v1)
  have HS : Hid (∀ w1, Below w.heap.size w w1 → Calls Try.prog 67 #[.bool (!neg z), .slice a (E 10 z.natAbs).length cap] w1 (NumP (-z) w1)) := fun w1 hb => by
    have := signed_num (!neg z) z.natAbs a cap w1 hs (hr.go hb) hl
    rw [zi_flip] at this; exact this
  clear hr
  generalize hPo : NumP (-z) w = Po at *
  clear hPo
  generalize neg z = b at *
  generalize (E 10 z.natAbs).length = l at *
  go_enter Try.func55, Try.ntmps55
  go_wp2_with fail
  refine (HS.out _ (((Below.refl _ _).alloc (Nat.le_refl _) _).alloc (by simp) _)).mono ?_
  rintro e w2 ⟨ra, rc, rfl, h1, h2, h3⟩
  obtain ⟨c0, c1, f0, f1⟩ := resbox (n := w.heap.size + 1) (by simp) h3
  have HN := Lib.hid (HF.out w2 _ (w.heap.size + 1) _ _ _ rc _ _ ra ((Below.refl _ w).alloc (Nat.le_refl _) _) (by simp) h3 h1 h2)
  clear h1 h2 h3 HF HS
  generalize neg (-z) = b2 at *
  generalize (E 10 (-z).natAbs).length = l2 at *
  go_wp2
  refine bodyPost_ret (v := .agg #[.bool b2, .slice ra l2 rc]) (by simp [results, Try.results55, go_sem, c0, c1]) rfl ?_
  exact HN.out _ _

set_option maxHeartbeats 1000000 in
theorem isZero_any (z : Int) (a : Option Addr) (cap : Nat) (w : World) (b : Bool) (hs : (E 10 z.natAbs).length ≤ 1000000) :
    Calls Try.prog 59 #[.agg #[.bool b, .slice a (E 10 z.natAbs).length cap]] w fun e w' => e = .returned (.bool (decide (z = 0))) ∧ Below w.heap.size w w' := by
  have hq : Hid (((((E 10 z.natAbs).length : Nat) : Int) == 0) = decide (z = 0)) := by
    show _ = _
    by_cases h : z = 0
    · subst h; rfl
    · have := len_pos z.natAbs (by omega)
      rw [decide_eq_false h, beq_eq_false_iff_ne]; omega
  generalize (E 10 z.natAbs).length = l at *
  generalize decide (z = 0) = r at *
  go_enter Try.func59, Try.ntmps59
  go_wp2
  go_ret
  rw [← hq.out]
  exact ⟨rfl, (Below.refl _ _).alloc (Nat.le_refl _) _⟩
end Go.Proofs.Ytmnopohjnbpinab
