/-
  Helper: the walk of CodepointForks: a feeder is continued twice with the same part.
-/
import Derived.Test.YtpebgggdpgppdaaDoorFeedDet
import Derived.Deep.RegionHeld3
import Derived.Lib.Hide
namespace Go.Proofs.YtpebgggdpgppdaaDoor
open Go.RowKit
set_option linter.unusedVariables false

/-- the variable that holds a feeder: its box at block k -/
def Fb (k : Nat) (b0 b1 b2 n : Int) (w : World) : Prop := k < w.heap.size ∧ w.cell? ⟨k, 0, none⟩ = some (.int .u8 b0) ∧ w.cell? ⟨k, 1, none⟩ = some (.int .u8 b1) ∧ w.cell? ⟨k, 2, none⟩ = some (.int .u8 b2) ∧ w.cell? ⟨k, 3, none⟩ = some (.int .i64 n)
theorem Fb.below {w w' : World} {k : Nat} {b0 b1 b2 n : Int} (h : Fb k b0 b1 b2 n w) (hb : Below w.heap.size w w') : Fb k b0 b1 b2 n w' := by
  obtain ⟨hk, h0, h1, h2, h3⟩ := h
  refine ⟨Nat.lt_of_lt_of_le hk hb.size, ?_, ?_, ?_, ?_⟩
  · rw [hb.cell (by exact hk)]; exact h0
  · rw [hb.cell (by exact hk)]; exact h1
  · rw [hb.cell (by exact hk)]; exact h2
  · rw [hb.cell (by exact hk)]; exact h3
theorem fb_new (w : World) (b0 b1 b2 n : Int) (t : TypeId) : Fb w.heap.size b0 b1 b2 n (w.alloc (.cells #[.int .u8 b0, .int .u8 b1, .int .u8 b2, .int .i64 n] t)) := by
  refine ⟨by simp, ?_, ?_, ?_, ?_⟩
  all_goals rw [World.cell?_alloc_at _ _ _ _ rfl]; rfl

theorem Fb.al {w : World} {k : Nat} {b0 b1 b2 n : Int} (h : Fb k b0 b1 b2 n w) (o : Obj) : Fb k b0 b1 b2 n (w.alloc o) := h.below ((Below.refl _ w).alloc (Nat.le_refl _) _)
theorem Fb.past {w w' : World} {k : Nat} {b0 b1 b2 n : Int} (h : Fb k b0 b1 b2 n w) (o : Obj) (hb : Below (w.alloc o).heap.size (w.alloc o) w') : Fb k b0 b1 b2 n w' := (h.al o).below hb
theorem Fb.new {w w' : World} {b0 b1 b2 n : Int} (t : TypeId) (hb : Below (w.alloc (.cells #[.int .u8 b0, .int .u8 b1, .int .u8 b2, .int .i64 n] t)).heap.size (w.alloc (.cells #[.int .u8 b0, .int .u8 b1, .int .u8 b2, .int .i64 n] t)) w') : Fb w.heap.size b0 b1 b2 n w' := (fb_new w b0 b1 b2 n t).below hb
def T4 (w : World) (k0 k2 k4 : Nat) (ys : List Int) (a2 a4 : Option Addr) (W : World) : Prop := Rr W a2 ys ∧ Rr W a4 ys ∧ Below w.heap.size w W ∧ k0 < W.heap.size ∧ k2 < W.heap.size ∧ k4 < W.heap.size
def G3 (w : World) (k0 k2 k4 : Nat) (x0 x1 x2 x3 y0 y1 y2 y3 : Value) (ys : List Int) (a2 a4 : Option Addr) (W : World) : Prop :=
  W.cell? ⟨k0, 0, none⟩ = some x0 ∧ W.cell? ⟨k0, 1, none⟩ = some x1 ∧ W.cell? ⟨k0, 2, none⟩ = some x2 ∧ W.cell? ⟨k0, 3, none⟩ = some x3 ∧ W.cell? ⟨k2, 0, none⟩ = some y0 ∧ W.cell? ⟨k2, 1, none⟩ = some y1 ∧ W.cell? ⟨k2, 2, none⟩ = some y2 ∧ W.cell? ⟨k2, 3, none⟩ = some y3 ∧ W.cell? ⟨k4, 0, none⟩ = some y0 ∧ W.cell? ⟨k4, 1, none⟩ = some y1 ∧ W.cell? ⟨k4, 2, none⟩ = some y2 ∧ W.cell? ⟨k4, 3, none⟩ = some y3 ∧ T4 w k0 k2 k4 ys a2 a4 W
theorem G3.keep {w : World} {k0 k2 k4 : Nat} {x0 x1 x2 x3 y0 y1 y2 y3 : Value} {ys : List Int} {a2 a4 : Option Addr} {W W' : World} (h : G3 w k0 k2 k4 x0 x1 x2 x3 y0 y1 y2 y3 ys a2 a4 W) (hb : Below W.heap.size W W') : G3 w k0 k2 k4 x0 x1 x2 x3 y0 y1 y2 y3 ys a2 a4 W' := by
  obtain ⟨z0, z1, z2, z3, f0, f1, f2, f3, g0, g1, g2, g3, r1, r2, hB, l0, l2, l4⟩ := h
  have hs := hb.size
  refine ⟨?_, ?_, ?_, ?_, ?_, ?_, ?_, ?_, ?_, ?_, ?_, ?_, r1.below hb, r2.below hb, hB.trans (hb.mono hB.size), by omega, by omega, by omega⟩
  · rw [hb.cell (by exact l0)]; exact z0
  · rw [hb.cell (by exact l0)]; exact z1
  · rw [hb.cell (by exact l0)]; exact z2
  · rw [hb.cell (by exact l0)]; exact z3
  · rw [hb.cell (by exact l2)]; exact f0
  · rw [hb.cell (by exact l2)]; exact f1
  · rw [hb.cell (by exact l2)]; exact f2
  · rw [hb.cell (by exact l2)]; exact f3
  · rw [hb.cell (by exact l4)]; exact g0
  · rw [hb.cell (by exact l4)]; exact g1
  · rw [hb.cell (by exact l4)]; exact g2
  · rw [hb.cell (by exact l4)]; exact g3
theorem G3.drew {w : World} {k0 k2 k4 : Nat} {x0 x1 x2 x3 y0 y1 y2 y3 : Value} {ys : List Int} {a2 a4 : Option Addr} {W : World} (h : G3 w k0 k2 k4 x0 x1 x2 x3 y0 y1 y2 y3 ys a2 a4 W) : G3 w k0 k2 k4 x0 x1 x2 x3 y0 y1 y2 y3 ys a2 a4 W.drew := h.keep ((Below.refl _ W).drew)
theorem T4.r1 {w : World} {k0 k2 k4 : Nat} {ys : List Int} {a2 a4 : Option Addr} {W : World} (h : T4 w k0 k2 k4 ys a2 a4 W) : Rr W a2 ys := h.1
theorem T4.r2 {w : World} {k0 k2 k4 : Nat} {ys : List Int} {a2 a4 : Option Addr} {W : World} (h : T4 w k0 k2 k4 ys a2 a4 W) : Rr W a4 ys := h.2.1
theorem T4.bel {w : World} {k0 k2 k4 : Nat} {ys : List Int} {a2 a4 : Option Addr} {W : World} (h : T4 w k0 k2 k4 ys a2 a4 W) : Below w.heap.size w W := h.2.2.1
theorem G3.t {w : World} {k0 k2 k4 : Nat} {x0 x1 x2 x3 y0 y1 y2 y3 : Value} {ys : List Int} {a2 a4 : Option Addr} {W : World} (h : G3 w k0 k2 k4 x0 x1 x2 x3 y0 y1 y2 y3 ys a2 a4 W) : T4 w k0 k2 k4 ys a2 a4 W := h.2.2.2.2.2.2.2.2.2.2.2.2
theorem G3.new {w W0 : World} {k0 k2 : Nat} {z0 z1 z2 z3 b0 b1 b2 n : Int} {ys : List Int} {a2 a4 : Option Addr} (t : TypeId) (hz : Fb k0 z0 z1 z2 z3 W0) (ha : Fb k2 b0 b1 b2 n W0) (hB : Below w.heap.size w W0) (r1 : Rr W0 a2 ys) (r2 : Rr W0 a4 ys) :
    G3 w k0 k2 W0.heap.size (.int .u8 z0) (.int .u8 z1) (.int .u8 z2) (.int .i64 z3) (.int .u8 b0) (.int .u8 b1) (.int .u8 b2) (.int .i64 n) ys a2 a4 (W0.alloc (.cells #[.int .u8 b0, .int .u8 b1, .int .u8 b2, .int .i64 n] t)) := by
  obtain ⟨l0, x0, x1, x2, x3⟩ := hz.al (.cells #[.int .u8 b0, .int .u8 b1, .int .u8 b2, .int .i64 n] t)
  obtain ⟨l2, y0, y1, y2, y3⟩ := ha.al (.cells #[.int .u8 b0, .int .u8 b1, .int .u8 b2, .int .i64 n] t)
  obtain ⟨l4, u0, u1, u2, u3⟩ := fb_new W0 b0 b1 b2 n t
  exact ⟨x0, x1, x2, x3, y0, y1, y2, y3, u0, u1, u2, u3, rr_al r1 _, rr_al r2 _, hB.alloc hB.size _, l0, l2, l4⟩
theorem fd_box (q : List UInt8) : ∃ b0 b1 b2 : Int, fq q = .agg #[.int .u8 b0, .int .u8 b1, .int .u8 b2, .int .i64 q.length] := ⟨_, _, _, fq_eq q⟩

end Go.Proofs.YtpebgggdpgppdaaDoor
