/-
  Helper: the tables that DigestZero's row lays are the tables that the walks read.
-/
import Derived.Test.YtnngadbmfdfmfaaDoorDgFrame
namespace Go.Proofs.YtnngadbmfdfmfaaDoor
open Go.RowKit
set_option linter.unusedVariables false

set_option maxRecDepth 100000 in
theorem tabs_laidZ (W : World) (hL : laidMetH Tryd.prog Rows.digestZeroRow.laid W) : Tabs W := by
  rw [MakeChecks.laidMetH_plain _ _ _ (by kernel_rfl)] at hL
  have r0 := Lib.laidMet.reads hL (.head _)
  have r1 := Lib.laidMet.reads hL (.tail _ (.head _))
  have h0 : Lib.TabIs Tryd.prog W "rosetta/digest.firstState" .u32 fsI :=
    tabIs_reads (g := 0) (t := 31) (n := 8) (e := 30) (by kernel_rfl) (by kernel_rfl) Tryd.underlying31 Tryd.underlying30 (by kernel_rfl) (by kernel_rfl) r0
  have h1 : Lib.TabIs Tryd.prog W "rosetta/digest.roundConstants" .u32 kcI :=
    tabIs_reads (g := 1) (t := 62) (n := 64) (e := 30) (by kernel_rfl) (by kernel_rfl) Tryd.underlying62 Tryd.underlying30 (by kernel_rfl) (by kernel_rfl) r1
  have t0 := tb_tab (g := 0) (cs := wv 8 fs) (by kernel_rfl) h0 (by unfold fsI wv; rw [List.map_map]; rfl)
  have t1 := tb_tab (g := 1) (cs := wv 64 kc) (by kernel_rfl) h1 (by unfold kcI wv; rw [List.map_map]; rfl)
  exact ⟨by have := t1.lt; omega, t0, t1⟩
end Go.Proofs.YtnngadbmfdfmfaaDoor
