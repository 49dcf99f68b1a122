/-
  DERIVED. GIVEN WITH THE SEED: THE CARDS: each row of YtljanfbchgalbaaDoorRows.lean that lists a variable, with what it lists TIED to the program's text (the seventh form; the later family's looks); each row that meets fmt, with fmt's text TOLD by the authors' own Lean function (tested against real Go, not proved from fmt's source: count such statements apart). THE CARD IS WHAT COUNTS. Prove the row's statement (the work); the ties are given (YtljanfbchgalbaaDoorTie.lean); close each card by the builder's one call (the guide's Derived/Test/ToyasCard.lean, 'card_holds'). Laid BY PROGRAM, IN A SANDBOX (cutbox-door.mjs). By AI agents, Wed Nov 11 2026. No macro, syntax, notation, axiom, sorry.
-/
import Derived.Test.YtljanfbchgalbaaDoorRows
import GoSem.ClaimSeven
namespace Go.Proofs.YtljanfbchgalbaaDoor
namespace Rows

/-- THE TIED CARD OF 'rosettalaw07.InstantReads'. -/
def instantReadsCard : Claim7 := { stood := { row := instantReadsRow, standIns := [], harness := (true, "51258dfaae143859c66552e40d43fbbd229e44c158a3eb825f7908427f4d82f4"), looks := false }, kinds := [], alts := [], laidByText := true, laidKinds := [.data, .data, .data, .data, .data, .data, .pinned], laidTests := true, laidLooks := .later }
def InstantReadsCardSaid : Prop := Claim7.holds Tryd.pinned (.plain (OpenSpec.ofChange instantReadsSpec)) instantReadsCard

/-- THE TIED CARD OF 'rosettalaw07.InstantLocals'. -/
def instantLocalsCard : Claim7 := { stood := { row := instantLocalsRow, standIns := [], harness := (true, "51258dfaae143859c66552e40d43fbbd229e44c158a3eb825f7908427f4d82f4"), looks := false }, kinds := [], alts := [], laidByText := true, laidKinds := [.data, .data, .data, .data, .data, .data, .pinned], laidTests := true, laidLooks := .later }
def InstantLocalsCardSaid : Prop := Claim7.holds Tryd.pinned (.plain (OpenSpec.ofChange instantLocalsSpec)) instantLocalsCard

/-- THE TIED CARD OF 'rosettalaw07.InstantCounts'. -/
def instantCountsCard : Claim7 := { stood := { row := instantCountsRow, standIns := [], harness := (true, "51258dfaae143859c66552e40d43fbbd229e44c158a3eb825f7908427f4d82f4"), looks := false }, kinds := [], alts := [], laidByText := true, laidKinds := [.data, .data, .data, .data, .data, .data, .pinned], laidTests := true, laidLooks := .later }
def InstantCountsCardSaid : Prop := Claim7.holds Tryd.pinned (.plain (OpenSpec.ofChange instantCountsSpec)) instantCountsCard

/-- THE TIED CARD OF 'rosettalaw07.InstantMakes'. -/
def instantMakesCard : Claim7 := { stood := { row := instantMakesRow, standIns := [], harness := (true, "51258dfaae143859c66552e40d43fbbd229e44c158a3eb825f7908427f4d82f4"), looks := false }, kinds := [], alts := [], laidByText := true, laidKinds := [.data, .data, .data, .data, .data, .data, .pinned], laidTests := true, laidLooks := .later }
def InstantMakesCardSaid : Prop := Claim7.holds Tryd.pinned (.plain (OpenSpec.ofChange instantMakesSpec)) instantMakesCard

/-- THE TIED CARD OF 'rosettalaw07.InstantOrders'. -/
def instantOrdersCard : Claim7 := { stood := { row := instantOrdersRow, standIns := [], harness := (true, "51258dfaae143859c66552e40d43fbbd229e44c158a3eb825f7908427f4d82f4"), looks := false }, kinds := [], alts := [], laidByText := true, laidKinds := [.data, .data, .data, .data, .data, .data, .pinned], laidTests := true, laidLooks := .later }
def InstantOrdersCardSaid : Prop := Claim7.holds Tryd.pinned (.plain (OpenSpec.ofChange instantOrdersSpec)) instantOrdersCard

/-- THE TIED CARD OF 'rosettalaw07.InstantShifts'. -/
def instantShiftsCard : Claim7 := { stood := { row := instantShiftsRow, standIns := [], harness := (true, "51258dfaae143859c66552e40d43fbbd229e44c158a3eb825f7908427f4d82f4"), looks := false }, kinds := [], alts := [], laidByText := true, laidKinds := [.data, .data, .data, .data, .data, .data, .pinned], laidTests := true, laidLooks := .later }
def InstantShiftsCardSaid : Prop := Claim7.holds Tryd.pinned (.plain (OpenSpec.ofChange instantShiftsSpec)) instantShiftsCard

/-- THE TIED CARD OF 'rosettalaw07.InstantSettles'. -/
def instantSettlesCard : Claim7 := { stood := { row := instantSettlesRow, standIns := [], harness := (true, "51258dfaae143859c66552e40d43fbbd229e44c158a3eb825f7908427f4d82f4"), looks := false }, kinds := [], alts := [], laidByText := true, laidKinds := [.data, .data, .data, .data, .data, .data, .pinned], laidTests := true, laidLooks := .later }
def InstantSettlesCardSaid : Prop := Claim7.holds Tryd.pinned (.plain (OpenSpec.ofChange instantSettlesSpec)) instantSettlesCard

/-- THE SECOND FORM's CARD OF 'rosettalaw07.InstantReads'. -/
def instantReadsUptoCard : Claim7 := { stood := { row := instantReadsUptoRow, standIns := [], harness := (true, "51258dfaae143859c66552e40d43fbbd229e44c158a3eb825f7908427f4d82f4"), looks := false }, kinds := [], alts := [], laidByText := true, laidKinds := [.data, .data, .data, .data, .data, .data, .pinned], laidTests := true, laidLooks := .later }
def InstantReadsUptoCardSaid : Prop := Claim7.holds Tryd.pinned (.plain (OpenSpec.upto instantReadsSpec)) instantReadsUptoCard

/-- THE SECOND FORM's CARD OF 'rosettalaw07.InstantLocals'. -/
def instantLocalsUptoCard : Claim7 := { stood := { row := instantLocalsUptoRow, standIns := [], harness := (true, "51258dfaae143859c66552e40d43fbbd229e44c158a3eb825f7908427f4d82f4"), looks := false }, kinds := [], alts := [], laidByText := true, laidKinds := [.data, .data, .data, .data, .data, .data, .pinned], laidTests := true, laidLooks := .later }
def InstantLocalsUptoCardSaid : Prop := Claim7.holds Tryd.pinned (.plain (OpenSpec.upto instantLocalsSpec)) instantLocalsUptoCard

/-- THE SECOND FORM's CARD OF 'rosettalaw07.InstantCounts'. -/
def instantCountsUptoCard : Claim7 := { stood := { row := instantCountsUptoRow, standIns := [], harness := (true, "51258dfaae143859c66552e40d43fbbd229e44c158a3eb825f7908427f4d82f4"), looks := false }, kinds := [], alts := [], laidByText := true, laidKinds := [.data, .data, .data, .data, .data, .data, .pinned], laidTests := true, laidLooks := .later }
def InstantCountsUptoCardSaid : Prop := Claim7.holds Tryd.pinned (.plain (OpenSpec.upto instantCountsSpec)) instantCountsUptoCard

/-- THE SECOND FORM's CARD OF 'rosettalaw07.InstantMakes'. -/
def instantMakesUptoCard : Claim7 := { stood := { row := instantMakesUptoRow, standIns := [], harness := (true, "51258dfaae143859c66552e40d43fbbd229e44c158a3eb825f7908427f4d82f4"), looks := false }, kinds := [], alts := [], laidByText := true, laidKinds := [.data, .data, .data, .data, .data, .data, .pinned], laidTests := true, laidLooks := .later }
def InstantMakesUptoCardSaid : Prop := Claim7.holds Tryd.pinned (.plain (OpenSpec.upto instantMakesSpec)) instantMakesUptoCard

/-- THE SECOND FORM's CARD OF 'rosettalaw07.InstantOrders'. -/
def instantOrdersUptoCard : Claim7 := { stood := { row := instantOrdersUptoRow, standIns := [], harness := (true, "51258dfaae143859c66552e40d43fbbd229e44c158a3eb825f7908427f4d82f4"), looks := false }, kinds := [], alts := [], laidByText := true, laidKinds := [.data, .data, .data, .data, .data, .data, .pinned], laidTests := true, laidLooks := .later }
def InstantOrdersUptoCardSaid : Prop := Claim7.holds Tryd.pinned (.plain (OpenSpec.upto instantOrdersSpec)) instantOrdersUptoCard

/-- THE SECOND FORM's CARD OF 'rosettalaw07.InstantShifts'. -/
def instantShiftsUptoCard : Claim7 := { stood := { row := instantShiftsUptoRow, standIns := [], harness := (true, "51258dfaae143859c66552e40d43fbbd229e44c158a3eb825f7908427f4d82f4"), looks := false }, kinds := [], alts := [], laidByText := true, laidKinds := [.data, .data, .data, .data, .data, .data, .pinned], laidTests := true, laidLooks := .later }
def InstantShiftsUptoCardSaid : Prop := Claim7.holds Tryd.pinned (.plain (OpenSpec.upto instantShiftsSpec)) instantShiftsUptoCard

/-- THE SECOND FORM's CARD OF 'rosettalaw07.InstantSettles'. -/
def instantSettlesUptoCard : Claim7 := { stood := { row := instantSettlesUptoRow, standIns := [], harness := (true, "51258dfaae143859c66552e40d43fbbd229e44c158a3eb825f7908427f4d82f4"), looks := false }, kinds := [], alts := [], laidByText := true, laidKinds := [.data, .data, .data, .data, .data, .data, .pinned], laidTests := true, laidLooks := .later }
def InstantSettlesUptoCardSaid : Prop := Claim7.holds Tryd.pinned (.plain (OpenSpec.upto instantSettlesSpec)) instantSettlesUptoCard
end Rows
end Go.Proofs.YtljanfbchgalbaaDoor
