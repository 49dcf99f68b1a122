/-
  DERIVED. GIVEN WITH THE SEED: THE CARDS: each row of YtmoljdgalonlpaaDoorRows.lean that lists a variable, with what it lists TIED to the program's text (the seventh form; the later family's looks); each row that meets fmt, with fmt's text TOLD by the authors' own Lean function (tested against real Go, not proved from fmt's source: count such statements apart). THE CARD IS WHAT COUNTS. Prove the row's statement (the work); the ties are given (YtmoljdgalonlpaaDoorTie.lean); close each card by the builder's one call (the guide's Derived/Test/ToyasCard.lean, 'card_holds'). Laid BY PROGRAM, IN A SANDBOX (cutbox-door.mjs). By AI agents, Wed Nov 11 2026. No macro, syntax, notation, axiom, sorry.
-/
import Derived.Test.YtmoljdgalonlpaaDoorRows
import GoSem.ClaimSeven
namespace Go.Proofs.YtmoljdgalonlpaaDoor
namespace Rows

/-- THE TIED CARD OF 'rosettalaw01.CodepointDecodes'. -/
def codepointDecodesCard : Claim7 := { stood := { row := codepointDecodesRow, standIns := [], harness := (true, "4e0510ca1993e01c073e1d5857c0017b7fbf37b1798efdb10314a678033b8877"), looks := false }, kinds := [], alts := [], laidByText := true, laidKinds := [.data, .pinned], laidTests := true, laidLooks := .later }
def CodepointDecodesCardSaid : Prop := Claim7.holds Tryd.pinned (.plain (OpenSpec.ofChange codepointDecodesSpec)) codepointDecodesCard

/-- THE TIED CARD OF 'rosettalaw01.CodepointEncodes'. -/
def codepointEncodesCard : Claim7 := { stood := { row := codepointEncodesRow, standIns := [], harness := (true, "4e0510ca1993e01c073e1d5857c0017b7fbf37b1798efdb10314a678033b8877"), looks := false }, kinds := [], alts := [], laidByText := true, laidKinds := [.data, .pinned], laidTests := true, laidLooks := .later }
def CodepointEncodesCardSaid : Prop := Claim7.holds Tryd.pinned (.plain (OpenSpec.ofChange codepointEncodesSpec)) codepointEncodesCard

/-- THE TIED CARD OF 'rosettalaw01.CodepointFeeds'. -/
def codepointFeedsCard : Claim7 := { stood := { row := codepointFeedsRow, standIns := [], harness := (true, "4e0510ca1993e01c073e1d5857c0017b7fbf37b1798efdb10314a678033b8877"), looks := false }, kinds := [], alts := [], laidByText := true, laidKinds := [.data, .pinned], laidTests := true, laidLooks := .later }
def CodepointFeedsCardSaid : Prop := Claim7.holds Tryd.pinned (.plain (OpenSpec.ofChange codepointFeedsSpec)) codepointFeedsCard

/-- THE TIED CARD OF 'rosettalaw01.CodepointTrips'. -/
def codepointTripsCard : Claim7 := { stood := { row := codepointTripsRow, standIns := [], harness := (true, "4e0510ca1993e01c073e1d5857c0017b7fbf37b1798efdb10314a678033b8877"), looks := false }, kinds := [], alts := [], laidByText := true, laidKinds := [.data, .pinned], laidTests := true, laidLooks := .later }
def CodepointTripsCardSaid : Prop := Claim7.holds Tryd.pinned (.plain (OpenSpec.ofChange codepointTripsSpec)) codepointTripsCard

/-- THE TIED CARD OF 'rosettalaw01.CodepointOrders'. -/
def codepointOrdersCard : Claim7 := { stood := { row := codepointOrdersRow, standIns := [], harness := (true, "4e0510ca1993e01c073e1d5857c0017b7fbf37b1798efdb10314a678033b8877"), looks := false }, kinds := [], alts := [], laidByText := true, laidKinds := [.data, .pinned], laidTests := true, laidLooks := .later }
def CodepointOrdersCardSaid : Prop := Claim7.holds Tryd.pinned (.plain (OpenSpec.ofChange codepointOrdersSpec)) codepointOrdersCard

/-- THE TIED CARD OF 'rosettalaw01.CodepointJoins'. -/
def codepointJoinsCard : Claim7 := { stood := { row := codepointJoinsRow, standIns := [], harness := (true, "4e0510ca1993e01c073e1d5857c0017b7fbf37b1798efdb10314a678033b8877"), looks := false }, kinds := [], alts := [], laidByText := true, laidKinds := [.data, .pinned], laidTests := true, laidLooks := .later }
def CodepointJoinsCardSaid : Prop := Claim7.holds Tryd.pinned (.plain (OpenSpec.ofChange codepointJoinsSpec)) codepointJoinsCard

/-- THE TIED CARD OF 'rosettalaw01.CodepointForks'. -/
def codepointForksCard : Claim7 := { stood := { row := codepointForksRow, standIns := [], harness := (true, "4e0510ca1993e01c073e1d5857c0017b7fbf37b1798efdb10314a678033b8877"), looks := false }, kinds := [], alts := [], laidByText := true, laidKinds := [.data, .pinned], laidTests := true, laidLooks := .later }
def CodepointForksCardSaid : Prop := Claim7.holds Tryd.pinned (.plain (OpenSpec.ofChange codepointForksSpec)) codepointForksCard

/-- THE TIED CARD OF 'rosettalaw02.PositionFinds'. -/
def positionFindsCard : Claim7 := { stood := { row := positionFindsRow, standIns := [], harness := (true, "4e0510ca1993e01c073e1d5857c0017b7fbf37b1798efdb10314a678033b8877"), looks := false }, kinds := [], alts := [], laidByText := true, laidKinds := [.data, .pinned], laidTests := true, laidLooks := .later }
def PositionFindsCardSaid : Prop := Claim7.holds Tryd.pinned (.plain (OpenSpec.ofChange positionFindsSpec)) positionFindsCard

/-- THE TIED CARD OF 'rosettalaw02.PositionReturns'. -/
def positionReturnsCard : Claim7 := { stood := { row := positionReturnsRow, standIns := [], harness := (true, "4e0510ca1993e01c073e1d5857c0017b7fbf37b1798efdb10314a678033b8877"), looks := false }, kinds := [], alts := [], laidByText := true, laidKinds := [.data, .pinned], laidTests := true, laidLooks := .later }
def PositionReturnsCardSaid : Prop := Claim7.holds Tryd.pinned (.plain (OpenSpec.ofChange positionReturnsSpec)) positionReturnsCard

/-- THE TIED CARD OF 'rosettalaw02.PositionBack'. -/
def positionBackCard : Claim7 := { stood := { row := positionBackRow, standIns := [], harness := (true, "4e0510ca1993e01c073e1d5857c0017b7fbf37b1798efdb10314a678033b8877"), looks := false }, kinds := [], alts := [], laidByText := true, laidKinds := [.data, .pinned], laidTests := true, laidLooks := .later }
def PositionBackCardSaid : Prop := Claim7.holds Tryd.pinned (.plain (OpenSpec.ofChange positionBackSpec)) positionBackCard

/-- THE TIED CARD OF 'rosettalaw02.PositionJoins'. -/
def positionJoinsCard : Claim7 := { stood := { row := positionJoinsRow, standIns := [], harness := (true, "4e0510ca1993e01c073e1d5857c0017b7fbf37b1798efdb10314a678033b8877"), looks := false }, kinds := [], alts := [], laidByText := true, laidKinds := [.data, .pinned], laidTests := true, laidLooks := .later }
def PositionJoinsCardSaid : Prop := Claim7.holds Tryd.pinned (.plain (OpenSpec.ofChange positionJoinsSpec)) positionJoinsCard

/-- THE TIED CARD OF 'rosettalaw02.PositionIndents'. -/
def positionIndentsCard : Claim7 := { stood := { row := positionIndentsRow, standIns := [], harness := (true, "4e0510ca1993e01c073e1d5857c0017b7fbf37b1798efdb10314a678033b8877"), looks := false }, kinds := [], alts := [], laidByText := true, laidKinds := [.data, .pinned], laidTests := true, laidLooks := .later }
def PositionIndentsCardSaid : Prop := Claim7.holds Tryd.pinned (.plain (OpenSpec.ofChange positionIndentsSpec)) positionIndentsCard

/-- THE SECOND FORM's CARD OF 'rosettalaw01.CodepointDecodes'. -/
def codepointDecodesUptoCard : Claim7 := { stood := { row := codepointDecodesUptoRow, standIns := [], harness := (true, "4e0510ca1993e01c073e1d5857c0017b7fbf37b1798efdb10314a678033b8877"), looks := false }, kinds := [], alts := [], laidByText := true, laidKinds := [.data, .pinned], laidTests := true, laidLooks := .later }
def CodepointDecodesUptoCardSaid : Prop := Claim7.holds Tryd.pinned (.plain (OpenSpec.upto codepointDecodesSpec)) codepointDecodesUptoCard

/-- THE SECOND FORM's CARD OF 'rosettalaw01.CodepointEncodes'. -/
def codepointEncodesUptoCard : Claim7 := { stood := { row := codepointEncodesUptoRow, standIns := [], harness := (true, "4e0510ca1993e01c073e1d5857c0017b7fbf37b1798efdb10314a678033b8877"), looks := false }, kinds := [], alts := [], laidByText := true, laidKinds := [.data, .pinned], laidTests := true, laidLooks := .later }
def CodepointEncodesUptoCardSaid : Prop := Claim7.holds Tryd.pinned (.plain (OpenSpec.upto codepointEncodesSpec)) codepointEncodesUptoCard

/-- THE SECOND FORM's CARD OF 'rosettalaw01.CodepointFeeds'. -/
def codepointFeedsUptoCard : Claim7 := { stood := { row := codepointFeedsUptoRow, standIns := [], harness := (true, "4e0510ca1993e01c073e1d5857c0017b7fbf37b1798efdb10314a678033b8877"), looks := false }, kinds := [], alts := [], laidByText := true, laidKinds := [.data, .pinned], laidTests := true, laidLooks := .later }
def CodepointFeedsUptoCardSaid : Prop := Claim7.holds Tryd.pinned (.plain (OpenSpec.upto codepointFeedsSpec)) codepointFeedsUptoCard

/-- THE SECOND FORM's CARD OF 'rosettalaw01.CodepointTrips'. -/
def codepointTripsUptoCard : Claim7 := { stood := { row := codepointTripsUptoRow, standIns := [], harness := (true, "4e0510ca1993e01c073e1d5857c0017b7fbf37b1798efdb10314a678033b8877"), looks := false }, kinds := [], alts := [], laidByText := true, laidKinds := [.data, .pinned], laidTests := true, laidLooks := .later }
def CodepointTripsUptoCardSaid : Prop := Claim7.holds Tryd.pinned (.plain (OpenSpec.upto codepointTripsSpec)) codepointTripsUptoCard

/-- THE SECOND FORM's CARD OF 'rosettalaw01.CodepointOrders'. -/
def codepointOrdersUptoCard : Claim7 := { stood := { row := codepointOrdersUptoRow, standIns := [], harness := (true, "4e0510ca1993e01c073e1d5857c0017b7fbf37b1798efdb10314a678033b8877"), looks := false }, kinds := [], alts := [], laidByText := true, laidKinds := [.data, .pinned], laidTests := true, laidLooks := .later }
def CodepointOrdersUptoCardSaid : Prop := Claim7.holds Tryd.pinned (.plain (OpenSpec.upto codepointOrdersSpec)) codepointOrdersUptoCard

/-- THE SECOND FORM's CARD OF 'rosettalaw01.CodepointJoins'. -/
def codepointJoinsUptoCard : Claim7 := { stood := { row := codepointJoinsUptoRow, standIns := [], harness := (true, "4e0510ca1993e01c073e1d5857c0017b7fbf37b1798efdb10314a678033b8877"), looks := false }, kinds := [], alts := [], laidByText := true, laidKinds := [.data, .pinned], laidTests := true, laidLooks := .later }
def CodepointJoinsUptoCardSaid : Prop := Claim7.holds Tryd.pinned (.plain (OpenSpec.upto codepointJoinsSpec)) codepointJoinsUptoCard

/-- THE SECOND FORM's CARD OF 'rosettalaw01.CodepointForks'. -/
def codepointForksUptoCard : Claim7 := { stood := { row := codepointForksUptoRow, standIns := [], harness := (true, "4e0510ca1993e01c073e1d5857c0017b7fbf37b1798efdb10314a678033b8877"), looks := false }, kinds := [], alts := [], laidByText := true, laidKinds := [.data, .pinned], laidTests := true, laidLooks := .later }
def CodepointForksUptoCardSaid : Prop := Claim7.holds Tryd.pinned (.plain (OpenSpec.upto codepointForksSpec)) codepointForksUptoCard

/-- THE SECOND FORM's CARD OF 'rosettalaw02.PositionFinds'. -/
def positionFindsUptoCard : Claim7 := { stood := { row := positionFindsUptoRow, standIns := [], harness := (true, "4e0510ca1993e01c073e1d5857c0017b7fbf37b1798efdb10314a678033b8877"), looks := false }, kinds := [], alts := [], laidByText := true, laidKinds := [.data, .pinned], laidTests := true, laidLooks := .later }
def PositionFindsUptoCardSaid : Prop := Claim7.holds Tryd.pinned (.plain (OpenSpec.upto positionFindsSpec)) positionFindsUptoCard

/-- THE SECOND FORM's CARD OF 'rosettalaw02.PositionReturns'. -/
def positionReturnsUptoCard : Claim7 := { stood := { row := positionReturnsUptoRow, standIns := [], harness := (true, "4e0510ca1993e01c073e1d5857c0017b7fbf37b1798efdb10314a678033b8877"), looks := false }, kinds := [], alts := [], laidByText := true, laidKinds := [.data, .pinned], laidTests := true, laidLooks := .later }
def PositionReturnsUptoCardSaid : Prop := Claim7.holds Tryd.pinned (.plain (OpenSpec.upto positionReturnsSpec)) positionReturnsUptoCard

/-- THE SECOND FORM's CARD OF 'rosettalaw02.PositionBack'. -/
def positionBackUptoCard : Claim7 := { stood := { row := positionBackUptoRow, standIns := [], harness := (true, "4e0510ca1993e01c073e1d5857c0017b7fbf37b1798efdb10314a678033b8877"), looks := false }, kinds := [], alts := [], laidByText := true, laidKinds := [.data, .pinned], laidTests := true, laidLooks := .later }
def PositionBackUptoCardSaid : Prop := Claim7.holds Tryd.pinned (.plain (OpenSpec.upto positionBackSpec)) positionBackUptoCard

/-- THE SECOND FORM's CARD OF 'rosettalaw02.PositionJoins'. -/
def positionJoinsUptoCard : Claim7 := { stood := { row := positionJoinsUptoRow, standIns := [], harness := (true, "4e0510ca1993e01c073e1d5857c0017b7fbf37b1798efdb10314a678033b8877"), looks := false }, kinds := [], alts := [], laidByText := true, laidKinds := [.data, .pinned], laidTests := true, laidLooks := .later }
def PositionJoinsUptoCardSaid : Prop := Claim7.holds Tryd.pinned (.plain (OpenSpec.upto positionJoinsSpec)) positionJoinsUptoCard

/-- THE SECOND FORM's CARD OF 'rosettalaw02.PositionIndents'. -/
def positionIndentsUptoCard : Claim7 := { stood := { row := positionIndentsUptoRow, standIns := [], harness := (true, "4e0510ca1993e01c073e1d5857c0017b7fbf37b1798efdb10314a678033b8877"), looks := false }, kinds := [], alts := [], laidByText := true, laidKinds := [.data, .pinned], laidTests := true, laidLooks := .later }
def PositionIndentsUptoCardSaid : Prop := Claim7.holds Tryd.pinned (.plain (OpenSpec.upto positionIndentsSpec)) positionIndentsUptoCard
end Rows
end Go.Proofs.YtmoljdgalonlpaaDoor
