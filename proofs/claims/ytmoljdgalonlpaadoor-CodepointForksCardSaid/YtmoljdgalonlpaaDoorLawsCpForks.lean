/-
  Helper: the walk of CodepointForks: a feeder is continued twice with the same part.
-/
import Derived.Test.YtmoljdgalonlpaaDoorFeedDet
import Derived.Deep.RegionHeld3
import Derived.Lib.Hide
namespace Go.Proofs.YtmoljdgalonlpaaDoor
open Go.RowKit
set_option linter.unusedVariables false

/-- the variable that holds a feeder: its box at block k -/
def Fb (k : Nat) (b0 b1 b2 n : Int) (w : World) : Prop := k < w.heap.size ∧ w.cell? ⟨k, 0, none⟩ = some (.int .u8 b0) ∧ w.cell? ⟨k, 1, none⟩ = some (.int .u8 b1) ∧ w.cell? ⟨k, 2, none⟩ = some (.int .u8 b2) ∧ w.cell? ⟨k, 3, none⟩ = some (.int .i64 n)
theorem Fb.below {w w' : World} {k : Nat} {b0 b1 b2 n : Int} (h : Fb k b0 b1 b2 n w) (hb : Below w.heap.size w w') : Fb k b0 b1 b2 n w' := by
  obtain ⟨hk, h0, h1, h2, h3⟩ := h
  refine ⟨Nat.lt_of_lt_of_le hk hb.size, ?_, ?_, ?_, ?_⟩
  · rw [hb.cell (by exact hk)]; exact h0
  · rw [hb.cell (by exact hk)]; exact h1
  · rw [hb.cell (by exact hk)]; exact h2
  · rw [hb.cell (by exact hk)]; exact h3
theorem fb_new (w : World) (b0 b1 b2 n : Int) (t : TypeId) : Fb w.heap.size b0 b1 b2 n (w.alloc (.cells #[.int .u8 b0, .int .u8 b1, .int .u8 b2, .int .i64 n] t)) := by
  refine ⟨by simp, ?_, ?_, ?_, ?_⟩
  all_goals rw [World.cell?_alloc_at _ _ _ _ rfl]; rfl

theorem Fb.al {w : World} {k : Nat} {b0 b1 b2 n : Int} (h : Fb k b0 b1 b2 n w) (o : Obj) : Fb k b0 b1 b2 n (w.alloc o) := h.below ((Below.refl _ w).alloc (Nat.le_refl _) _)
theorem Fb.past {w w' : World} {k : Nat} {b0 b1 b2 n : Int} (h : Fb k b0 b1 b2 n w) (o : Obj) (hb : Below (w.alloc o).heap.size (w.alloc o) w') : Fb k b0 b1 b2 n w' := (h.al o).below hb
theorem Fb.new {w w' : World} {b0 b1 b2 n : Int} (t : TypeId) (hb : Below (w.alloc (.cells #[.int .u8 b0, .int .u8 b1, .int .u8 b2, .int .i64 n] t)).heap.size (w.alloc (.cells #[.int .u8 b0, .int .u8 b1, .int .u8 b2, .int .i64 n] t)) w') : Fb w.heap.size b0 b1 b2 n w' := (fb_new w b0 b1 b2 n t).below hb
def T4 (w : World) (k0 k2 k4 : Nat) (ys : List Int) (a2 a4 : Option Addr) (W : World) : Prop := Rr W a2 ys ∧ Rr W a4 ys ∧ Below w.heap.size w W ∧ k0 < W.heap.size ∧ k2 < W.heap.size ∧ k4 < W.heap.size
def G3 (w : World) (k0 k2 k4 : Nat) (x0 x1 x2 x3 y0 y1 y2 y3 : Value) (ys : List Int) (a2 a4 : Option Addr) (W : World) : Prop :=
  W.cell? ⟨k0, 0, none⟩ = some x0 ∧ W.cell? ⟨k0, 1, none⟩ = some x1 ∧ W.cell? ⟨k0, 2, none⟩ = some x2 ∧ W.cell? ⟨k0, 3, none⟩ = some x3 ∧ W.cell? ⟨k2, 0, none⟩ = some y0 ∧ W.cell? ⟨k2, 1, none⟩ = some y1 ∧ W.cell? ⟨k2, 2, none⟩ = some y2 ∧ W.cell? ⟨k2, 3, none⟩ = some y3 ∧ W.cell? ⟨k4, 0, none⟩ = some y0 ∧ W.cell? ⟨k4, 1, none⟩ = some y1 ∧ W.cell? ⟨k4, 2, none⟩ = some y2 ∧ W.cell? ⟨k4, 3, none⟩ = some y3 ∧ T4 w k0 k2 k4 ys a2 a4 W
theorem G3.keep {w : World} {k0 k2 k4 : Nat} {x0 x1 x2 x3 y0 y1 y2 y3 : Value} {ys : List Int} {a2 a4 : Option Addr} {W W' : World} (h : G3 w k0 k2 k4 x0 x1 x2 x3 y0 y1 y2 y3 ys a2 a4 W) (hb : Below W.heap.size W W') : G3 w k0 k2 k4 x0 x1 x2 x3 y0 y1 y2 y3 ys a2 a4 W' := by
  obtain ⟨z0, z1, z2, z3, f0, f1, f2, f3, g0, g1, g2, g3, r1, r2, hB, l0, l2, l4⟩ := h
  have hs := hb.size
  refine ⟨?_, ?_, ?_, ?_, ?_, ?_, ?_, ?_, ?_, ?_, ?_, ?_, r1.below hb, r2.below hb, hB.trans (hb.mono hB.size), by omega, by omega, by omega⟩
  · rw [hb.cell (by exact l0)]; exact z0
  · rw [hb.cell (by exact l0)]; exact z1
  · rw [hb.cell (by exact l0)]; exact z2
  · rw [hb.cell (by exact l0)]; exact z3
  · rw [hb.cell (by exact l2)]; exact f0
  · rw [hb.cell (by exact l2)]; exact f1
  · rw [hb.cell (by exact l2)]; exact f2
  · rw [hb.cell (by exact l2)]; exact f3
  · rw [hb.cell (by exact l4)]; exact g0
  · rw [hb.cell (by exact l4)]; exact g1
  · rw [hb.cell (by exact l4)]; exact g2
  · rw [hb.cell (by exact l4)]; exact g3
theorem G3.drew {w : World} {k0 k2 k4 : Nat} {x0 x1 x2 x3 y0 y1 y2 y3 : Value} {ys : List Int} {a2 a4 : Option Addr} {W : World} (h : G3 w k0 k2 k4 x0 x1 x2 x3 y0 y1 y2 y3 ys a2 a4 W) : G3 w k0 k2 k4 x0 x1 x2 x3 y0 y1 y2 y3 ys a2 a4 W.drew := h.keep ((Below.refl _ W).drew)
theorem T4.r1 {w : World} {k0 k2 k4 : Nat} {ys : List Int} {a2 a4 : Option Addr} {W : World} (h : T4 w k0 k2 k4 ys a2 a4 W) : Rr W a2 ys := h.1
theorem T4.r2 {w : World} {k0 k2 k4 : Nat} {ys : List Int} {a2 a4 : Option Addr} {W : World} (h : T4 w k0 k2 k4 ys a2 a4 W) : Rr W a4 ys := h.2.1
theorem T4.bel {w : World} {k0 k2 k4 : Nat} {ys : List Int} {a2 a4 : Option Addr} {W : World} (h : T4 w k0 k2 k4 ys a2 a4 W) : Below w.heap.size w W := h.2.2.1
theorem G3.t {w : World} {k0 k2 k4 : Nat} {x0 x1 x2 x3 y0 y1 y2 y3 : Value} {ys : List Int} {a2 a4 : Option Addr} {W : World} (h : G3 w k0 k2 k4 x0 x1 x2 x3 y0 y1 y2 y3 ys a2 a4 W) : T4 w k0 k2 k4 ys a2 a4 W := h.2.2.2.2.2.2.2.2.2.2.2.2
theorem G3.new {w W0 : World} {k0 k2 : Nat} {z0 z1 z2 z3 b0 b1 b2 n : Int} {ys : List Int} {a2 a4 : Option Addr} (t : TypeId) (hz : Fb k0 z0 z1 z2 z3 W0) (ha : Fb k2 b0 b1 b2 n W0) (hB : Below w.heap.size w W0) (r1 : Rr W0 a2 ys) (r2 : Rr W0 a4 ys) :
    G3 w k0 k2 W0.heap.size (.int .u8 z0) (.int .u8 z1) (.int .u8 z2) (.int .i64 z3) (.int .u8 b0) (.int .u8 b1) (.int .u8 b2) (.int .i64 n) ys a2 a4 (W0.alloc (.cells #[.int .u8 b0, .int .u8 b1, .int .u8 b2, .int .i64 n] t)) := by
  obtain ⟨l0, x0, x1, x2, x3⟩ := hz.al (.cells #[.int .u8 b0, .int .u8 b1, .int .u8 b2, .int .i64 n] t)
  obtain ⟨l2, y0, y1, y2, y3⟩ := ha.al (.cells #[.int .u8 b0, .int .u8 b1, .int .u8 b2, .int .i64 n] t)
  obtain ⟨l4, u0, u1, u2, u3⟩ := fb_new W0 b0 b1 b2 n t
  exact ⟨x0, x1, x2, x3, y0, y1, y2, y3, u0, u1, u2, u3, rr_al r1 _, rr_al r2 _, hB.alloc hB.size _, l0, l2, l4⟩
theorem fd_box (q : List UInt8) : ∃ b0 b1 b2 : Int, fq q = .agg #[.int .u8 b0, .int .u8 b1, .int .u8 b2, .int .i64 q.length] := ⟨_, _, _, fq_eq q⟩

set_option maxRecDepth 100000 in
set_option maxHeartbeats 2000000 in
theorem walkCodepointForks (w : World) (hT : Tabs w) (a : ByteArray) (h : a.size ≤ maxLen) (b : ByteArray) (h' : b.size ≤ maxLen) (c : ByteArray) (h'' : c.size ≤ maxLen) :
    Calls Tryd.prog 9 #[.string a, .string b, .string c] w fun e w' => e = .returned (.bool true) ∧ Below w.heap.size w w' := by
  unfold maxLen at h h' h''
  have HT := Lib.hid hT
  clear hT
  by_cases ha : a.size ≤ 100
  · by_cases hb : b.size ≤ 100
    · by_cases hc : c.size ≤ 100
      · obtain ⟨q, xs, err, hq, hx, F1⟩ := feed_det [] (by decide) a (by omega)
        obtain ⟨r, ys, err2, hr, hy, F2⟩ := feed_det q hq b (by omega)
        obtain ⟨v, zs, err3, hv, hz, F3⟩ := feed_det q hq c (by omega)
        have E0 := Lib.hid (fun w => end_q [] (by decide) w)
        have ER := Lib.hid (fun w => end_q r hr w)
        have HI := Lib.hid (fun a1 a2 cap cap' w k1 k2 => is_same ys hy a1 a2 cap cap' w k1 k2)
        obtain ⟨b0, b1, b2, eq⟩ := fd_box q
        obtain ⟨d0, d1, d2, er⟩ := fd_box r
        obtain ⟨v0, v1, v2, ev⟩ := fd_box v
        rw [eq] at F1 F2 F3
        rw [er] at F2 ER
        rw [ev] at F3
        rw [show fq [] = .agg #[.int .u8 0, .int .u8 0, .int .u8 0, .int .i64 0] from rfl] at F1 E0
        have HF1 := Lib.hid F1
        have HF2 := Lib.hid F2
        have HF3 := Lib.hid F3
        have HER : Hid (∃ x, ∀ w, Calls Tryd.prog 25 #[.agg #[.int .u8 d0, .int .u8 d1, .int .u8 d2, .int .i64 r.length]] w fun e w' => e = .returned (.int .i64 x) ∧ Below w.heap.size w w') := ⟨_, ER.out⟩
        clear F1 F2 F3 ER eq er ev hx hz hr hv
        generalize q.length = nq at *
        generalize r.length = nr at *
        generalize v.length = nv at *
        obtain ⟨x, ERx⟩ := HER.out
        have HE := Lib.hid ERx
        clear ERx HER
        by_cases herr : err = 0
        · subst herr
          go_enter Tryd.func9, Tryd.ntmps9
          go_wp2_with fail
          refine (awake1_any _ HT.out).mono ?_
          rintro e w0 ⟨rfl, hb0⟩
          go_wp2_with fail
          have hT1 : Hid (Tabs w0) := HT.out.below hb0
          refine (HF1.out _ (tabs_al hT1.out _)).mono ?_
          rintro e w1 ⟨a1, cap1, rfl, _, hb1⟩
          have hT2 : Hid (Tabs w1) := hT1.out.below (below_al _ hb1)
          have hZ1 := Lib.hid (Fb.new 41 hb1)
          have hB1 := Lib.hid (below2 hb0 (below_al _ hb1))
          clear hb0 hb1 hT1 HT
          go_wp2_with fail
          refine (HF2.out _ (tabs_al hT2.out _)).mono ?_
          rintro e w2 ⟨a2, cap2, rfl, hr2, hb2⟩
          have hT3 : Hid (Tabs w2) := hT2.out.below (below_al _ hb2)
          have hZ2 := Lib.hid (hZ1.out.past _ hb2)
          have hP2 := Lib.hid (Fb.new 41 hb2)
          have hB2 := Lib.hid (below2 hB1.out (below_al _ hb2))
          have hR2 := Lib.hid hr2
          clear hb2 hT2 hZ1 hB1 hr2
          obtain ⟨_, f0, f1, f2, f3⟩ := (hP2.out.al (.cells #[.int .u8 d0, .int .u8 d1, .int .u8 d2, .int .i64 nr] 41))
          go_wp2_with fail
          refine (HF3.out _ (tabs_al hT3.out _)).mono ?_
          rintro e w3 ⟨a3, cap3, rfl, _, hb3⟩
          have hT4 : Hid (Tabs w3) := hT3.out.below (below_al _ hb3)
          have hZ3 := Lib.hid (hZ2.out.past _ hb3)
          have hP3 := Lib.hid (hP2.out.past _ hb3)
          have hQ3 := Lib.hid (Fb.new 41 hb3)
          have hB3 := Lib.hid (below2 hB2.out (below_al _ hb3))
          have hR3 := Lib.hid (hR2.out.below (below_al _ hb3))
          clear hb3 hT3 hZ2 hP2 hB2 hR2 f0 f1 f2 f3
          obtain ⟨_, f0, f1, f2, f3⟩ := hP3.out
          go_wp2_with fail
          refine (HF2.out _ hT4.out).mono ?_
          rintro e w4 ⟨a4, cap4, rfl, hr4, hb4⟩
          have hZ4 := Lib.hid (hZ3.out.below hb4)
          have hQ4 := Lib.hid (hQ3.out.below hb4)
          have hB4 := Lib.hid (below2 hB3.out hb4)
          have hR4 := Lib.hid (hR3.out.below hb4)
          have hS4 := Lib.hid hr4
          clear hb4 hr4 hT4 hZ3 hQ3 hB3 hR3 f0 f1 f2 f3 hP3
          go_wp2_with fail
          have hG := G3.new 41 hZ4.out hQ4.out hB4.out hR4.out hS4.out
          generalize w4.alloc (.cells #[.int .u8 d0, .int .u8 d1, .int .u8 d2, .int .i64 nr] 41) = W at hG ⊢
          have hG0 : W.cell? ⟨w0.heap.size, 0, none⟩ = some (.int .u8 0) ∧ W.cell? ⟨w0.heap.size, 1, none⟩ = some (.int .u8 0) ∧ W.cell? ⟨w0.heap.size, 2, none⟩ = some (.int .u8 0) ∧ W.cell? ⟨w0.heap.size, 3, none⟩ = some (.int .i64 0) ∧ W.cell? ⟨w2.heap.size, 0, none⟩ = some (.int .u8 d0) ∧ W.cell? ⟨w2.heap.size, 1, none⟩ = some (.int .u8 d1) ∧ W.cell? ⟨w2.heap.size, 2, none⟩ = some (.int .u8 d2) ∧ W.cell? ⟨w2.heap.size, 3, none⟩ = some (.int .i64 nr) ∧ W.cell? ⟨w4.heap.size, 0, none⟩ = some (.int .u8 d0) ∧ W.cell? ⟨w4.heap.size, 1, none⟩ = some (.int .u8 d1) ∧ W.cell? ⟨w4.heap.size, 2, none⟩ = some (.int .u8 d2) ∧ W.cell? ⟨w4.heap.size, 3, none⟩ = some (.int .i64 nr) ∧ T4 w w0.heap.size w2.heap.size w4.heap.size ys a2 a4 W := hG
          clear hG hZ4 hQ4 hB4 hR4 hS4
          go_region_held3 (fun w' => w'.cell? ⟨w0.heap.size, 0, none⟩ = some (.int .u8 0) ∧ w'.cell? ⟨w0.heap.size, 1, none⟩ = some (.int .u8 0) ∧ w'.cell? ⟨w0.heap.size, 2, none⟩ = some (.int .u8 0) ∧ w'.cell? ⟨w0.heap.size, 3, none⟩ = some (.int .i64 0) ∧ w'.cell? ⟨w2.heap.size, 0, none⟩ = some (.int .u8 d0) ∧ w'.cell? ⟨w2.heap.size, 1, none⟩ = some (.int .u8 d1) ∧ w'.cell? ⟨w2.heap.size, 2, none⟩ = some (.int .u8 d2) ∧ w'.cell? ⟨w2.heap.size, 3, none⟩ = some (.int .i64 nr) ∧ w'.cell? ⟨w4.heap.size, 0, none⟩ = some (.int .u8 d0) ∧ w'.cell? ⟨w4.heap.size, 1, none⟩ = some (.int .u8 d1) ∧ w'.cell? ⟨w4.heap.size, 2, none⟩ = some (.int .u8 d2) ∧ w'.cell? ⟨w4.heap.size, 3, none⟩ = some (.int .i64 nr) ∧ T4 w w0.heap.size w2.heap.size w4.heap.size ys a2 a4 w') (first | assumption | exact G3.drew (by assumption) | exact G3.keep (by assumption) (by assumption))
            (first | (go_at_call 19; refine (HI.out _ _ _ _ _ (G3.t (by assumption)).r1 (G3.t (by assumption)).r2).mono ?_; rintro e w' ⟨rfl, hbb⟩) | (go_at_call 25; first | (refine (HE.out _).mono ?_; rintro e w' ⟨rfl, hbb⟩) | (refine (E0.out _).mono ?_; rintro e w' ⟨rfl, hbb⟩)))
          rename_i hSz
          have hBz := Lib.hid (G3.t hSz).bel
          clear hSz hG0
          go_wp2_with fail
          go_ret
          exact ⟨rfl, hBz.out⟩
        · have hne : (err != 0) = true := by rw [bne_iff_ne]; exact herr
          go_enter Tryd.func9, Tryd.ntmps9
          go_wp2_with fail
          refine (awake1_any _ HT.out).mono ?_
          rintro e w0 ⟨rfl, hb0⟩
          go_wp2_with fail
          have hT1 : Hid (Tabs w0) := HT.out.below hb0
          refine (HF1.out _ (tabs_al hT1.out _)).mono ?_
          rintro e w1 ⟨a1, cap1, rfl, _, hb1⟩
          have hZ1 := Lib.hid (Fb.new 41 hb1)
          have hB1 := Lib.hid (below2 hb0 (below_al _ hb1))
          clear hb0 hb1 hT1 HT
          obtain ⟨_, f0, f1, f2, f3⟩ := (hZ1.out.al (.cells #[.int .u8 b0, .int .u8 b1, .int .u8 b2, .int .i64 nq] 41))
          go_wp2_with fail
          refine (E0.out _).mono ?_
          rintro e w2 ⟨rfl, hb2⟩
          have hB2 := Lib.hid (below2 hB1.out (below_al _ hb2))
          clear hb2
          go_wp2_with fail
          go_ret
          exact ⟨rfl, hB2.out⟩
      · go_enter Tryd.func9, Tryd.ntmps9
        go_wp2_with fail
        refine (awake1_any _ HT.out).mono ?_
        rintro e w0 ⟨rfl, hb0⟩
        go_wp2_with fail
        go_ret
        exact ⟨rfl, hb0⟩
    · go_enter Tryd.func9, Tryd.ntmps9
      go_wp2_with fail
      refine (awake1_any _ HT.out).mono ?_
      rintro e w0 ⟨rfl, hb0⟩
      go_wp2_with fail
      go_ret
      exact ⟨rfl, hb0⟩
  · go_enter Tryd.func9, Tryd.ntmps9
    go_wp2_with fail
    refine (awake1_any _ HT.out).mono ?_
    rintro e w0 ⟨rfl, hb0⟩
    go_wp2_with fail
    go_ret
    exact ⟨rfl, hb0⟩
end Go.Proofs.YtmoljdgalonlpaaDoor
