/-
  Helper: the variables that the rows lay are what the walks read.
-/
import Derived.Test.YtpankmaljafnnaaGreatDoorDcAwk
import Derived.Test.YtpankmaljafnnaaGreatDoorRows
import Derived.Lib.LaidU8
import Derived.Lib.LaidTab
import Derived.OpenShut
import Derived.LaidOnce
import Derived.MakeChecks
namespace Go.Proofs.YtpankmaljafnnaaGreatDoor
open Go.RowKit
set_option linter.unusedVariables false

theorem tabIs_reads {P : Program} {W : World} {name : String} {k : IntKind} {zs : List Int} {g : Nat} {t e : TypeId} {n : Nat}
    (hg : P.globalNamed name = some g) (hty : (P.globals[g]?).map (·.type) = some t) (ht : P.underlying t = some (.array n e)) (he : P.underlying e = some (.int k)) (hce : P.cellsOf e = 1) (hct : P.cellsOf t = n)
    (h : Lib.VarReads P W name (Lib.tabData k zs)) : Lib.TabIs P W name k zs := by
  obtain ⟨g', t', cs, fuel, p, hg', ht', hvar, hd⟩ := h
  obtain rfl := Option.some.inj (hg.symm.trans hg')
  obtain rfl := Option.some.inj (hty.symm.trans ht')
  unfold Lib.TabIs
  rw [hvar, ← Lib.cells_of_tab ht he hce hct hd]
theorem iface_of_trod {H : Type} {enc : TypeId × Value → H} {P : Program} {w : World} {base : Nat} {sp : Nat → Bool} {held : Bool} {fuel : Nat} {t : TypeId} {cs : List Value} {ms : Array (String × TypeId)} {d : DataW H × List MemPlace} (ht : P.underlying t = some (.interface ms))
    (h : DataW.trod enc P w base sp held fuel t cs = some d) : ∃ v, cs = [v] ∧ (v = .nilIface ∨ ∃ te pe, v = .iface te pe) := by
  cases fuel with
  | zero => simp [DataW.trod] at h
  | succ fuel =>
    unfold DataW.trod at h
    rw [ht] at h
    split at h <;> first | (exact ⟨_, rfl, .inl rfl⟩) | (exact ⟨_, rfl, .inr ⟨_, _, rfl⟩⟩) | (rename_i h2; cases h2) | (cases h)
theorem err_cell {P : Program} {W : World} {name : String} {g : Nat} {t : TypeId} {ms : Array (String × TypeId)} {d : DataW Unit} (hg : P.globalNamed name = some g) (hty : (P.globals[g]?).map (·.type) = some t) (ht : P.underlying t = some (.interface ms)) (h : Lib.VarReads P W name d) : ∃ ev, W.cell? ⟨g, 0, none⟩ = some ev ∧ (ev = .nilIface ∨ ∃ te pe, ev = .iface te pe) := by
  obtain ⟨g', t', cs, fuel, p, hg', ht', hvar, hd⟩ := h
  obtain rfl := Option.some.inj (hg.symm.trans hg')
  obtain rfl := Option.some.inj (hty.symm.trans ht')
  obtain ⟨v, hcs, hv⟩ := iface_of_trod ht hd
  refine ⟨v, ?_, hv⟩
  unfold World.var? at hvar
  rw [hg, Option.bind_some] at hvar
  split at hvar
  · rename_i cs' e fr hh
    obtain rfl := Option.some.inj hvar
    rw [cell_of_row W g 0 _ e fr hh]
    have : cs' = #[v] := by rw [← Array.toArray_toList (xs := cs'), hcs]
    rw [this]; rfl
  · cases hvar
set_option maxRecDepth 100000 in
theorem tabs_laid (W : World) (hL : laidMetH Tryz.prog Rows.decimalNearRow.laid W) : Tabs W := by
  rw [MakeChecks.laidMetH_plain _ _ _ (by kernel_rfl)] at hL
  have r5 := Lib.laidMet.reads hL (.tail _ (.tail _ (.head _)))
  have r2 := Lib.laidMet.reads hL (.tail _ (.tail _ (.tail _ (.tail _ (.head _)))))
  have h5 : Lib.TabIs Tryz.prog W "internal/strconv.uint64pow10" .u64 Lib.pow10Tab :=
    tabIs_reads (g := 5) (t := 168) (n := 20) (e := 143) (by kernel_rfl) (by kernel_rfl) Tryz.underlying168 Tryz.underlying143 (by kernel_rfl) (by kernel_rfl) r5
  have h2 := err_cell (g := 2) (t := 93) (by kernel_rfl) (by kernel_rfl) Tryz.underlying93 r2
  refine ⟨?_, h5, h2⟩
  have c5 := h5.cell (g := 5) (by kernel_rfl) 0 (by rw [Lib.pow10Tab_length]; omega)
  by_cases g : 6 ≤ W.heap.size
  · exact g
  · rw [World.cell?] at c5
    simp [Array.getElem?_eq_none (show W.heap.size ≤ 5 by omega)] at c5
end Go.Proofs.YtpankmaljafnnaaGreatDoor
