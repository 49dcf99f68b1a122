/-
  Helper: number.rounded where nothing is dropped.
-/
import Derived.Test.YtpankmaljafnnaaGreatDoorDcRnd
namespace Go.Proofs.YtpankmaljafnnaaGreatDoor
open Go.RowKit
set_option linter.unusedVariables false
set_option linter.unusedSimpArgs false

set_option maxRecDepth 100000 in
set_option maxHeartbeats 3000000 in
theorem rnd_same (b : Bool) (l : List UInt8) (e : Int) (a : Option Addr) (cap : Nat) (ex : Int) (hcap : l.length ≤ cap) (hl : l.length ≤ 5000) (hA : AD l) (hle : ex ≤ e) (w : World) (hr : Rb w a l) :
    Calls Tryz.prog 60 #[.agg (nvl b a l.length cap e).toArray, .int .i64 ex] w (PluP (zi b (numv l)) e w) := by
  obtain ⟨wa, hwa⟩ : ∃ wa, w.alloc (.cells (nvl b a l.length cap e).toArray 61) = wa := ⟨_, rfl⟩
  obtain ⟨wb, hwb⟩ : ∃ wb, wa.alloc (.cells #[.bool false, .slice none 0 0, .int .i64 0] 61) = wb := ⟨_, rfl⟩
  obtain ⟨N, hN⟩ : ∃ N, w.heap.size = N := ⟨_, rfl⟩
  have s1 : wa.heap.size = N + 1 := by rw [← hwa, ← hN]; simp
  have hBn : Blk wb N 61 (nvl b a l.length cap e) := by
    rw [← hwb]; refine Blk.old ?_ _; rw [← hwa, ← hN]; exact Blk.new w _ _
  have hBr : Blk wb (N + 1) 61 (nvl false none 0 0 0) := by
    rw [← hwb, ← s1]; exact Blk.new wa _ _
  have hb : Below N w wb := by
    rw [← hwb, ← hwa, ← hN]; exact ((Below.refl _ w).alloc (Nat.le_refl _) _).alloc (by simp) _
  have c0 := hBn.cell 0 (.bool b) rfl
  have c1 := hBn.cell 1 (.slice a l.length cap) rfl
  have c2 := hBn.cell 2 (.int .i64 e) rfl
  have z0 := hBr.cell 0 (.bool false) rfl
  have z1 := hBr.cell 1 (.slice none 0 0) rfl
  have z2 := hBr.cell 2 (.int .i64 0) rfl
  have f0 := hBr.free 0
  have f1 := hBr.free 1
  have f2 := hBr.free 2
  obtain ⟨g1, g2⟩ := rnd_fin (E := e) hN hb hBr (hr.go (by rw [hN]; exact hb)) hcap (by omega) hA rfl
  have g1h := Lib.hid g1
  have g2h := Lib.hid g2
  generalize PluP (zi b (numv l)) e w = Po at *
  generalize l.length = n at *
  clear g1 g2 hBn hBr hb hr
  go_enter Tryz.func60, Tryz.ntmps60
  go_wp2
  exact bodyPost_ret (v := .agg (nvl b a n cap e).toArray) (fin_rnd _ _ (N + 1) b a n cap e rfl g1h.out) rfl g2h.out
end Go.Proofs.YtpankmaljafnnaaGreatDoor
