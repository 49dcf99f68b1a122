/-
  Helper: the tables that the rows lay are the tables that the walks read.
-/
import Derived.Test.YtnngadbmfdfmfaaDoorDgAdd
import Derived.Test.YtnngadbmfdfmfaaDoorRows
import Derived.Lib.LaidU8
import Derived.Lib.LaidTab
import Derived.OpenShut
import Derived.LaidOnce
import Derived.MakeChecks
namespace Go.Proofs.YtnngadbmfdfmfaaDoor
open Go.RowKit
set_option linter.unusedVariables false

theorem tabIs_reads {P : Program} {W : World} {name : String} {k : IntKind} {zs : List Int} {g : Nat} {t e : TypeId} {n : Nat}
    (hg : P.globalNamed name = some g) (hty : (P.globals[g]?).map (·.type) = some t) (ht : P.underlying t = some (.array n e)) (he : P.underlying e = some (.int k)) (hce : P.cellsOf e = 1) (hct : P.cellsOf t = n)
    (h : Lib.VarReads P W name (Lib.tabData k zs)) : Lib.TabIs P W name k zs := by
  obtain ⟨g', t', cs, fuel, p, hg', ht', hvar, hd⟩ := h
  obtain rfl := Option.some.inj (hg.symm.trans hg')
  obtain rfl := Option.some.inj (hty.symm.trans ht')
  unfold Lib.TabIs
  rw [hvar, ← Lib.cells_of_tab ht he hce hct hd]
def fsI : List Int := (List.range 8).map fun i => ((fs i).toNat : Int)
def kcI : List Int := (List.range 64).map fun i => ((kc i).toNat : Int)
theorem tb_tab {W : World} {name : String} {zs : List Int} {g : Nat} {cs : List Value} (hg : Tryd.prog.globalNamed name = some g) (h : Lib.TabIs Tryd.prog W name .u32 zs) (hc : (zs.map fun z => Value.int .u32 z) = cs) : Tb W g cs := by
  unfold Lib.TabIs World.var? at h
  rw [hg, Option.bind_some, hc] at h
  split at h
  · rename_i cs' e fr hh
    obtain rfl := Option.some.inj h
    exact ⟨e, fr, hh⟩
  · cases h
set_option maxRecDepth 100000 in
theorem tabs_laid (W : World) (hL : laidMetH Tryd.prog Rows.digestSumsRow.laid W) : Tabs W := by
  rw [MakeChecks.laidMetH_plain _ _ _ (by kernel_rfl)] at hL
  have r0 := Lib.laidMet.reads hL (.head _)
  have r1 := Lib.laidMet.reads hL (.tail _ (.head _))
  have h0 : Lib.TabIs Tryd.prog W "rosetta/digest.firstState" .u32 fsI :=
    tabIs_reads (g := 0) (t := 31) (n := 8) (e := 30) (by kernel_rfl) (by kernel_rfl) Tryd.underlying31 Tryd.underlying30 (by kernel_rfl) (by kernel_rfl) r0
  have h1 : Lib.TabIs Tryd.prog W "rosetta/digest.roundConstants" .u32 kcI :=
    tabIs_reads (g := 1) (t := 62) (n := 64) (e := 30) (by kernel_rfl) (by kernel_rfl) Tryd.underlying62 Tryd.underlying30 (by kernel_rfl) (by kernel_rfl) r1
  have t0 := tb_tab (g := 0) (cs := wv 8 fs) (by kernel_rfl) h0 (by unfold fsI wv; rw [List.map_map]; rfl)
  have t1 := tb_tab (g := 1) (cs := wv 64 kc) (by kernel_rfl) h1 (by unfold kcI wv; rw [List.map_map]; rfl)
  exact ⟨by have := t1.lt; omega, t0, t1⟩
end Go.Proofs.YtnngadbmfdfmfaaDoor
