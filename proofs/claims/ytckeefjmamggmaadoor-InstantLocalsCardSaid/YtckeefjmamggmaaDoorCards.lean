/-
  DERIVED. GIVEN WITH THE SEED: THE CARDS: each row of YtckeefjmamggmaaDoorRows.lean that lists a variable, with what it lists TIED to the program's text (the seventh form; the later family's looks); each row that meets fmt, with fmt's text TOLD by the authors' own Lean function (tested against real Go, not proved from fmt's source: count such statements apart). THE CARD IS WHAT COUNTS. Prove the row's statement (the work); the ties are given (YtckeefjmamggmaaDoorTie.lean); close each card by the builder's one call (the guide's Derived/Test/ToyasCard.lean, 'card_holds'). Laid BY PROGRAM, IN A SANDBOX (cutbox-door.mjs). By AI agents, Wed Nov 11 2026. No macro, syntax, notation, axiom, sorry.
-/
import Derived.Test.YtckeefjmamggmaaDoorRows
import GoSem.ClaimSeven
namespace Go.Proofs.YtckeefjmamggmaaDoor
namespace Rows

/-- THE TIED CARD OF 'rosettalaw07.InstantReads'. -/
def instantReadsCard : Claim7 := { stood := { row := instantReadsRow, standIns := [], harness := (true, "77e37bbd5566ac5b1f9943516e0231e31caee9372b9b989d47f1da0493b49f8f"), looks := false }, kinds := [], alts := [], laidByText := true, laidKinds := [.data, .data, .data, .data, .data, .data, .pinned], laidTests := true, laidLooks := .later }
def InstantReadsCardSaid : Prop := Claim7.holds Tryd.pinned (.plain (OpenSpec.ofChange instantReadsSpec)) instantReadsCard

/-- THE TIED CARD OF 'rosettalaw07.InstantLocals'. -/
def instantLocalsCard : Claim7 := { stood := { row := instantLocalsRow, standIns := [], harness := (true, "77e37bbd5566ac5b1f9943516e0231e31caee9372b9b989d47f1da0493b49f8f"), looks := false }, kinds := [], alts := [], laidByText := true, laidKinds := [.data, .data, .data, .data, .data, .data, .pinned], laidTests := true, laidLooks := .later }
def InstantLocalsCardSaid : Prop := Claim7.holds Tryd.pinned (.plain (OpenSpec.ofChange instantLocalsSpec)) instantLocalsCard

/-- THE TIED CARD OF 'rosettalaw07.InstantCounts'. -/
def instantCountsCard : Claim7 := { stood := { row := instantCountsRow, standIns := [], harness := (true, "77e37bbd5566ac5b1f9943516e0231e31caee9372b9b989d47f1da0493b49f8f"), looks := false }, kinds := [], alts := [], laidByText := true, laidKinds := [.data, .data, .data, .data, .data, .data, .pinned], laidTests := true, laidLooks := .later }
def InstantCountsCardSaid : Prop := Claim7.holds Tryd.pinned (.plain (OpenSpec.ofChange instantCountsSpec)) instantCountsCard

/-- THE SECOND FORM's CARD OF 'rosettalaw07.InstantReads'. -/
def instantReadsUptoCard : Claim7 := { stood := { row := instantReadsUptoRow, standIns := [], harness := (true, "77e37bbd5566ac5b1f9943516e0231e31caee9372b9b989d47f1da0493b49f8f"), looks := false }, kinds := [], alts := [], laidByText := true, laidKinds := [.data, .data, .data, .data, .data, .data, .pinned], laidTests := true, laidLooks := .later }
def InstantReadsUptoCardSaid : Prop := Claim7.holds Tryd.pinned (.plain (OpenSpec.upto instantReadsSpec)) instantReadsUptoCard

/-- THE SECOND FORM's CARD OF 'rosettalaw07.InstantLocals'. -/
def instantLocalsUptoCard : Claim7 := { stood := { row := instantLocalsUptoRow, standIns := [], harness := (true, "77e37bbd5566ac5b1f9943516e0231e31caee9372b9b989d47f1da0493b49f8f"), looks := false }, kinds := [], alts := [], laidByText := true, laidKinds := [.data, .data, .data, .data, .data, .data, .pinned], laidTests := true, laidLooks := .later }
def InstantLocalsUptoCardSaid : Prop := Claim7.holds Tryd.pinned (.plain (OpenSpec.upto instantLocalsSpec)) instantLocalsUptoCard

/-- THE SECOND FORM's CARD OF 'rosettalaw07.InstantCounts'. -/
def instantCountsUptoCard : Claim7 := { stood := { row := instantCountsUptoRow, standIns := [], harness := (true, "77e37bbd5566ac5b1f9943516e0231e31caee9372b9b989d47f1da0493b49f8f"), looks := false }, kinds := [], alts := [], laidByText := true, laidKinds := [.data, .data, .data, .data, .data, .data, .pinned], laidTests := true, laidLooks := .later }
def InstantCountsUptoCardSaid : Prop := Claim7.holds Tryd.pinned (.plain (OpenSpec.upto instantCountsSpec)) instantCountsUptoCard
end Rows
end Go.Proofs.YtckeefjmamggmaaDoor
