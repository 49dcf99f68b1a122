/-
  Helper: the tables that the row lays are the tables that the walks read.
-/
import Derived.Test.YtckeefjmamggmaaDoorInAwF
import Derived.Test.YtckeefjmamggmaaDoorRows
import Derived.Lib.LaidU8
import Derived.OpenShut
import Derived.LaidOnce
import Derived.MakeChecks
namespace Go.Proofs.YtckeefjmamggmaaDoor
open Go.RowKit
set_option linter.unusedVariables false

theorem tabIs_reads {P : Program} {W : World} {name : String} {k : IntKind} {zs : List Int} {g : Nat} {t e : TypeId} {n : Nat}
    (hg : P.globalNamed name = some g) (hty : (P.globals[g]?).map (·.type) = some t) (ht : P.underlying t = some (.array n e)) (he : P.underlying e = some (.int k)) (hce : P.cellsOf e = 1) (hct : P.cellsOf t = n)
    (h : Lib.VarReads P W name (Lib.tabData k zs)) : Lib.TabIs P W name k zs := by
  obtain ⟨g', t', cs, fuel, p, hg', ht', hvar, hd⟩ := h
  obtain rfl := Option.some.inj (hg.symm.trans hg')
  obtain rfl := Option.some.inj (hty.symm.trans ht')
  unfold Lib.TabIs
  rw [hvar, ← Lib.cells_of_tab ht he hce hct hd]
set_option maxRecDepth 100000 in
theorem tabs_laid (W : World) (hL : laidMetH Tryd.prog Rows.instantReadsRow.laid W) : Tabs W := by
  rw [MakeChecks.laidMetH_plain _ _ _ (by kernel_rfl)] at hL
  have r3 := Lib.laidMet.reads hL (.tail _ (.tail _ (.head _)))
  have r1 := Lib.laidMet.reads hL (.tail _ (.tail _ (.tail _ (.tail _ (.head _)))))
  have r0 := Lib.laidMet.reads hL (.tail _ (.tail _ (.tail _ (.tail _ (.tail _ (.head _))))))
  have h3 : Lib.TabIs Tryd.prog W "internal/strconv.uint64pow10" .u64 Lib.pow10Tab :=
    tabIs_reads (g := 3) (t := 121) (n := 20) (e := 100) (by kernel_rfl) (by kernel_rfl) Tryd.underlying121 Tryd.underlying100 (by kernel_rfl) (by kernel_rfl) r3
  have h1 : Lib.TabIs Tryd.prog W "rosetta/civil.lengths" .i64 [0, 31, 28, 31, 30, 31, 30, 31, 31, 30, 31, 30, 31] :=
    tabIs_reads (g := 1) (t := 76) (n := 13) (e := 3) (by kernel_rfl) (by kernel_rfl) Tryd.underlying76 Tryd.underlying3 (by kernel_rfl) (by kernel_rfl) r1
  have h0 : Lib.TabIs Tryd.prog W "rosetta/instant.limits" .i64 [9999, 12, 31, 23, 59, 59, 23, 59] :=
    tabIs_reads (g := 0) (t := 41) (n := 8) (e := 3) (by kernel_rfl) (by kernel_rfl) Tryd.underlying41 Tryd.underlying3 (by kernel_rfl) (by kernel_rfl) r0
  have c3 := fun i hi => h3.cell (g := 3) (by kernel_rfl) i hi
  have c1 := fun i hi => h1.cell (g := 1) (by kernel_rfl) i hi
  have c0 := fun i hi => h0.cell (g := 0) (by kernel_rfl) i hi
  have hsz : 3 < W.heap.size := by
    by_cases g : 3 < W.heap.size
    · exact g
    · have := c3 0 (by rw [Lib.pow10Tab_length]; omega)
      rw [World.cell?] at this
      simp [Array.getElem?_eq_none (show W.heap.size ≤ 3 by omega)] at this
  refine ⟨hsz, ⟨by omega, fun m hm => ?_⟩, fun k hk => ?_, h3⟩
  · rw [c1 m hm]
    have hk : m = 0 ∨ m = 1 ∨ m = 2 ∨ m = 3 ∨ m = 4 ∨ m = 5 ∨ m = 6 ∨ m = 7 ∨ m = 8 ∨ m = 9 ∨ m = 10 ∨ m = 11 ∨ m = 12 := by omega
    rcases hk with rfl | rfl | rfl | rfl | rfl | rfl | rfl | rfl | rfl | rfl | rfl | rfl | rfl <;> rfl
  · rw [c0 k hk]
    have hk2 : k = 0 ∨ k = 1 ∨ k = 2 ∨ k = 3 ∨ k = 4 ∨ k = 5 ∨ k = 6 ∨ k = 7 := by omega
    rcases hk2 with rfl | rfl | rfl | rfl | rfl | rfl | rfl | rfl <;> rfl
end Go.Proofs.YtckeefjmamggmaaDoor
