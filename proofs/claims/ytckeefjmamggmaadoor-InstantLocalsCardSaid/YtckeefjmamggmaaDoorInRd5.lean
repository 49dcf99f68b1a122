/-
  Helper: the walk of the reference's Seconds.
-/
import Derived.Test.YtckeefjmamggmaaDoorInRd4
namespace Go.Proofs.YtckeefjmamggmaaDoor
open Go.RowKit
set_option linter.unusedVariables false
set_option linter.unusedSimpArgs false

theorem quietD {w : World} {q : Nat} (y m d : Nat) (hy : y ≤ 10000) (hm : 1 ≤ m) (hm2 : m ≤ 13) (hd2 : d ≤ 100) : Calls Tryd.prog 28 #[.int .i64 y, .int .i64 m, .int .i64 d] (w.drewN q) fun e w'' => e = .returned (.int .i64 (dn y m d)) ∧ ∃ m', w'' = w.drewN m' :=
  (rdays_any y m d hy hm hm2 (by omega) (by omega) (w.drewN q)).mono fun e w' ⟨h1, r, h2⟩ => ⟨h1, q + r, by rw [h2]; exact World.drewN_drewN _ _ _⟩
set_option maxRecDepth 100000 in
set_option maxHeartbeats 4000000 in
theorem rsec_any (t : RT) (y m d h i k : Nat) (ey : t.y = (y : Int)) (em : t.mo = (m : Int)) (ed : t.d = (d : Int)) (eh : t.h = (h : Int)) (ei : t.mi = (i : Int)) (ek : t.s = (k : Int)) (hy : y ≤ 9999) (hm : 1 ≤ m) (hm2 : m ≤ 12) (hd : d ≤ 31) (hh : h ≤ 99) (hi : i ≤ 99) (hk : k ≤ 99) (ho : -400000 ≤ t.off) (ho2 : t.off ≤ 400000) (hb1 : -1000000 ≤ dn y m d) (hb2 : dn y m d ≤ 4000000) (w : World) :
    Calls Tryd.prog 16 #[.agg t.v.toArray] w fun e w' => e = .returned (.int .i64 (86400 * dn y m d + 3600 * (h : Int) + 60 * (i : Int) + (k : Int) - t.off)) ∧ Below w.heap.size w w' := by
  obtain ⟨wb, hwb⟩ : ∃ wb, w.alloc (.cells t.v.toArray 30) = wb := ⟨_, rfl⟩
  obtain ⟨N, hN⟩ : ∃ N, w.heap.size = N := ⟨_, rfl⟩
  have hB : Hid (Blk wb N 30 t.v) := by rw [← hwb, ← hN]; exact Blk.new w _ _
  have hb : Hid (Below w.heap.size w wb) := by rw [← hwb]; exact (Below.refl _ w).alloc (Nat.le_refl _) _
  have c3 := hB.out.cell 3 (.int .i64 (y : Int)) (by rw [← ey]; rfl)
  have c4 := hB.out.cell 4 (.int .i64 (m : Int)) (by rw [← em]; rfl)
  have c5 := hB.out.cell 5 (.int .i64 (d : Int)) (by rw [← ed]; rfl)
  have c6 := hB.out.cell 6 (.int .i64 (h : Int)) (by rw [← eh]; rfl)
  have c7 := hB.out.cell 7 (.int .i64 (i : Int)) (by rw [← ei]; rfl)
  have c8 := hB.out.cell 8 (.int .i64 (k : Int)) (by rw [← ek]; rfl)
  have c10 := hB.out.cell 10 (.int .i64 t.off) rfl
  clear ey em ed eh ei ek
  generalize t.off = off at *
  go_enter Tryd.func16, Tryd.ntmps16
  go_wp2_with fail
  clear hwb
  go_quiet ((go_at_call 28; exact quietD y m d (by omega) hm (by omega) (by omega)))
  go_wp2
  go_ret
  exact ⟨rfl, Below.drewN hb.out nq⟩
end Go.Proofs.YtckeefjmamggmaaDoor
