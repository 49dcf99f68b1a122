/-
  Helper: the walk of appendGroup.
-/
import Derived.Test.YtaapmndfefjdcaaDoorArHex
namespace Go.Proofs.YtaapmndfefjdcaaDoor
open Go.RowKit
set_option linter.unusedVariables false

theorem and_3 (x : Nat) (h : x < 256) : bits .and .u8 (x : Int) 3 = ((x % 4 : Nat) : Int) := by
  have := u8_and_nat x 3 h (by omega)
  rw [nat_mask2] at this
  exact this
theorem and_63 (x : Nat) (h : x < 256) : bits .and .u8 (x : Int) 63 = ((x % 64 : Nat) : Int) := by
  have := u8_and_nat x 63 h (by omega)
  rw [nat_mask6] at this
  exact this
theorem or_4 (a b : Nat) (ha : a < 256) (hb : b < 256) : bits .or .u8 (IntKind.u8.wrap (bits .and .u8 (a : Int) 3 * 16)) ((b : Int) / 16) = ((a % 4 * 16 + b / 16 : Nat) : Int) := by
  rw [and_3 a ha, IntKind.wrap_u8', show ((a % 4 : Nat) : Int) * 16 % 256 = ((a % 4 * 16 : Nat) : Int) by omega, show (b : Int) / 16 = ((b / 16 : Nat) : Int) by omega, u8_or_nat _ _ (by omega) (by omega), nat_join 4 _ _ (by omega) (by omega)]
theorem or_2 (b c : Nat) (hb : b < 256) (hc : c < 256) : bits .or .u8 (IntKind.u8.wrap (bits .and .u8 (b : Int) 15 * 4)) ((c : Int) / 64) = ((b % 16 * 4 + c / 64 : Nat) : Int) := by
  rw [and_15 b hb, IntKind.wrap_u8', show ((b % 16 : Nat) : Int) * 4 % 256 = ((b % 16 * 4 : Nat) : Int) by omega, show (c : Int) / 64 = ((c / 64 : Nat) : Int) by omega, u8_or_nat _ _ (by omega) (by omega), nat_join 2 _ _ (by omega) (by omega)]
/-- a row comes back, longer by some bytes -/
def GrpP (B n : Nat) (l : List UInt8) (w0 w : World) (v : Value) (e : Ending) (w' : World) : Prop := ∃ v', e = .returned v' ∧ w'.ownsRow B 5 1 v' n (bytes l) ∧ Below B w0 w' ∧ Spared w v w'
set_option maxRecDepth 100000 in
set_option maxHeartbeats 4000000 in
theorem group_any (B n : Nat) (l : List UInt8) (v : Value) (a b c : UInt8) (w0 w : World) (hown : w.ownsRow B 5 1 v n (bytes l)) (hb : Below B w0 w) (hB : B ≤ w.heap.size) (hn : n ≤ 1000000) :
    Calls Tryd.prog 27 #[v, .int .u8 (a.toNat : Int), .int .u8 (b.toNat : Int), .int .u8 (c.toNat : Int)] w (GrpP B (n + 4) (l ++ g4 a.toNat b.toNat c.toNat) w0 w v) := by
  have ha : a.toNat < 256 := UInt8.toNat_lt a
  have hbb : b.toNat < 256 := UInt8.toNat_lt b
  have hc : c.toNat < 256 := UInt8.toNat_lt c
  have HF : Hid (∀ v' w', w'.ownsRow B 5 1 v' (n + 4) (bytes (l ++ g4 a.toNat b.toNat c.toNat)) → Below B w0 w' → Spared w v w' → GrpP B (n + 4) (l ++ g4 a.toNat b.toNat c.toNat) w0 w v (.returned v') w') := fun v' w' h1 h2 h3 => ⟨v', rfl, h1, h2, h3⟩
  generalize hPo : GrpP B (n + 4) (l ++ g4 a.toNat b.toNat c.toNat) w0 w v = Po at *
  clear hPo
  generalize a.toNat = a at *
  generalize b.toNat = b at *
  generalize c.toNat = c at *
  have i1 := ix_six .u8 (a / 4) (by omega)
  have i2 := ix_six .u8 (a % 4 * 16 + b / 16) (by omega)
  have i3 := ix_six .u8 (b % 16 * 4 + c / 64) (by omega)
  have i4 := ix_six .u8 (c % 64) (by omega)
  rw [show ((a / 4 : Nat) : Int) = (a : Int) / 4 by omega] at i1
  rw [← or_4 a b ha hbb] at i2
  rw [← or_2 b c hbb hc] at i3
  rw [← and_63 c hc] at i4
  have hg4 : g4 a b c = [sx (a / 4), sx (a % 4 * 16 + b / 16), sx (b % 16 * 4 + c / 64), sx (c % 64)] := rfl
  rw [hg4] at HF
  clear hg4
  generalize sx (a / 4) = h1 at *
  generalize sx (a % 4 * 16 + b / 16) = h2 at *
  generalize sx (b % 16 * 4 + c / 64) = h3 at *
  generalize sx (c % 64) = h4 at *
  have hownh := Lib.hid hown
  have hbh := Lib.hid hb
  clear hown hb
  obtain ⟨aa, cap, rfl⟩ := World.ownsRow.isSlice hownh.out
  go_enter Tryd.func27, Tryd.ntmps27
  go_wp2_with fail
  have hwd : Hid (w.drew.ownsRow B 5 1 (.slice aa n cap) n (bytes l)) := hownh.out
  have hbd : Hid (Below B w0 w.drew) := hbh.out.drew
  have hsd : B ≤ w.drew.heap.size := hB
  go_region_law ((refine step_append_bytes (w := w.drew) rfl (.tmp 9) (.tmp 30) 40 rfl Tryd.underlying40 _ B _ n l [h1, h2, h3, h4] 4 rfl rfl rfl hwd.out w0 hbd.out hsd (by omega) (by omega) rfl ?_); intro v' w3 hown3 hb3 hsp)
  all_goals
    have hfin := Lib.hid (HF.out v' w3 hown3 hb3 hsp)
    clear hown3 hb3 hsp
    first | (go_wp2; go_ret; exact hfin.out) | (go_simp; go_wp2; exact hfin.out) | (go_simp; go_wp2; go_ret; exact hfin.out) | (go_wp2; go_simp; exact hfin.out)
end Go.Proofs.YtaapmndfefjdcaaDoor
