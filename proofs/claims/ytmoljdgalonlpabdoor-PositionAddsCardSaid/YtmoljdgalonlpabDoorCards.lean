/-
  DERIVED. GIVEN WITH THE SEED: THE CARDS: each row of YtmoljdgalonlpabDoorRows.lean that lists a variable, with what it lists TIED to the program's text (the seventh form; the later family's looks); each row that meets fmt, with fmt's text TOLD by the authors' own Lean function (tested against real Go, not proved from fmt's source: count such statements apart). THE CARD IS WHAT COUNTS. Prove the row's statement (the work); the ties are given (YtmoljdgalonlpabDoorTie.lean); close each card by the builder's one call (the guide's Derived/Test/ToyasCard.lean, 'card_holds'). Laid BY PROGRAM, IN A SANDBOX (cutbox-door.mjs). By AI agents, Wed Nov 11 2026. No macro, syntax, notation, axiom, sorry.
-/
import Derived.Test.YtmoljdgalonlpabDoorRows
import GoSem.ClaimSeven
namespace Go.Proofs.YtmoljdgalonlpabDoor
namespace Rows

/-- THE TIED CARD OF 'rosettalaw02.PositionZero'. -/
def positionZeroCard : Claim7 := { stood := { row := positionZeroRow, standIns := [], harness := (true, "6104f113092be00a083413ca7a3e200aca369dd8c6ce5ccb887edd88827f785c"), looks := false }, kinds := [], alts := [], laidByText := true, laidKinds := [.data, .pinned], laidTests := true, laidLooks := .later }
def PositionZeroCardSaid : Prop := Claim7.holds Tryd.pinned (.plain (OpenSpec.ofChange positionZeroSpec)) positionZeroCard

/-- THE TIED CARD OF 'rosettalaw02.PositionAdds'. -/
def positionAddsCard : Claim7 := { stood := { row := positionAddsRow, standIns := [], harness := (true, "6104f113092be00a083413ca7a3e200aca369dd8c6ce5ccb887edd88827f785c"), looks := false }, kinds := [], alts := [], laidByText := true, laidKinds := [.data, .pinned], laidTests := true, laidLooks := .later }
def PositionAddsCardSaid : Prop := Claim7.holds Tryd.pinned (.plain (OpenSpec.ofChange positionAddsSpec)) positionAddsCard

/-- THE SECOND FORM's CARD OF 'rosettalaw02.PositionZero'. -/
def positionZeroUptoCard : Claim7 := { stood := { row := positionZeroUptoRow, standIns := [], harness := (true, "6104f113092be00a083413ca7a3e200aca369dd8c6ce5ccb887edd88827f785c"), looks := false }, kinds := [], alts := [], laidByText := true, laidKinds := [.data, .pinned], laidTests := true, laidLooks := .later }
def PositionZeroUptoCardSaid : Prop := Claim7.holds Tryd.pinned (.plain (OpenSpec.upto positionZeroSpec)) positionZeroUptoCard

/-- THE SECOND FORM's CARD OF 'rosettalaw02.PositionAdds'. -/
def positionAddsUptoCard : Claim7 := { stood := { row := positionAddsUptoRow, standIns := [], harness := (true, "6104f113092be00a083413ca7a3e200aca369dd8c6ce5ccb887edd88827f785c"), looks := false }, kinds := [], alts := [], laidByText := true, laidKinds := [.data, .pinned], laidTests := true, laidLooks := .later }
def PositionAddsUptoCardSaid : Prop := Claim7.holds Tryd.pinned (.plain (OpenSpec.upto positionAddsSpec)) positionAddsUptoCard
end Rows
end Go.Proofs.YtmoljdgalonlpabDoor
