/-
  DERIVED. GIVEN WITH THE SEED: THE CARDS: each row of YtpebgggdpgppdaaDoorRows.lean that lists a variable, with what it lists TIED to the program's text (the seventh form; the later family's looks); each row that meets fmt, with fmt's text TOLD by the authors' own Lean function (tested against real Go, not proved from fmt's source: count such statements apart). THE CARD IS WHAT COUNTS. Prove the row's statement (the work); the ties are given (YtpebgggdpgppdaaDoorTie.lean); close each card by the builder's one call (the guide's Derived/Test/ToyasCard.lean, 'card_holds'). Laid BY PROGRAM, IN A SANDBOX (cutbox-door.mjs). By AI agents, Wed Nov 11 2026. No macro, syntax, notation, axiom, sorry.
-/
import Derived.Test.YtpebgggdpgppdaaDoorRows
import GoSem.ClaimSeven
namespace Go.Proofs.YtpebgggdpgppdaaDoor
namespace Rows

/-- THE TIED CARD OF 'rosettalaw01.CodepointFeeds'. -/
def codepointFeedsCard : Claim7 := { stood := { row := codepointFeedsRow, standIns := [], harness := (true, "07a37d112bc471d74adc3be5bf7fe772938f9a83bc9723ca5b067e68d4dfab5d"), looks := false }, kinds := [], alts := [], laidByText := true, laidKinds := [.data, .pinned], laidTests := true, laidLooks := .later }
def CodepointFeedsCardSaid : Prop := Claim7.holds Tryd.pinned (.plain (OpenSpec.ofChange codepointFeedsSpec)) codepointFeedsCard

/-- THE SECOND FORM's CARD OF 'rosettalaw01.CodepointFeeds'. -/
def codepointFeedsUptoCard : Claim7 := { stood := { row := codepointFeedsUptoRow, standIns := [], harness := (true, "07a37d112bc471d74adc3be5bf7fe772938f9a83bc9723ca5b067e68d4dfab5d"), looks := false }, kinds := [], alts := [], laidByText := true, laidKinds := [.data, .pinned], laidTests := true, laidLooks := .later }
def CodepointFeedsUptoCardSaid : Prop := Claim7.holds Tryd.pinned (.plain (OpenSpec.upto codepointFeedsSpec)) codepointFeedsUptoCard
end Rows
end Go.Proofs.YtpebgggdpgppdaaDoor
