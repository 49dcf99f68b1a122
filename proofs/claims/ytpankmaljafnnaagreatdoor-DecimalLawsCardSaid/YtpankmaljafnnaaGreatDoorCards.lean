/-
  DERIVED. GIVEN WITH THE SEED: THE CARDS: each row of YtpankmaljafnnaaGreatDoorRows.lean that lists a variable, with what it lists TIED to the program's text (the seventh form; the later family's looks); each row that meets fmt, with fmt's text TOLD by the authors' own Lean function (tested against real Go, not proved from fmt's source: count such statements apart). THE CARD IS WHAT COUNTS. Prove the row's statement (the work); the ties are given (YtpankmaljafnnaaGreatDoorTie.lean); close each card by the builder's one call (the guide's Derived/Test/ToyasCard.lean, 'card_holds'). Laid BY PROGRAM, IN A SANDBOX (cutbox-door.mjs). By AI agents, Wed Nov 11 2026. No macro, syntax, notation, axiom, sorry.
-/
import Derived.Test.YtpankmaljafnnaaGreatDoorRows
import GoSem.ClaimSeven
namespace Go.Proofs.YtpankmaljafnnaaGreatDoor
namespace Rows

/-- THE TIED CARD OF 'rosettalaw04.DecimalReads'. -/
def decimalReadsCard : Claim7 := { stood := { row := decimalReadsRow, standIns := [], harness := (true, "20c1512f9385255adbae54ba714a8c446a1f37dd6348f6474ed7f7a776f701cf"), looks := true }, kinds := [], alts := [], laidByText := true, laidKinds := [.data, .data, .data, .data, .sentinel, .sentinel, .pinned], laidTests := true, laidLooks := .later }
def DecimalReadsCardSaid : Prop := Claim7.holds Tryz.pinned (.plain (OpenSpec.ofChange decimalReadsSpec)) decimalReadsCard

/-- THE TIED CARD OF 'rosettalaw04.DecimalShows'. -/
def decimalShowsCard : Claim7 := { stood := { row := decimalShowsRow, standIns := [], harness := (true, "20c1512f9385255adbae54ba714a8c446a1f37dd6348f6474ed7f7a776f701cf"), looks := true }, kinds := [], alts := [], laidByText := true, laidKinds := [.data, .data, .data, .data, .sentinel, .sentinel, .pinned], laidTests := true, laidLooks := .later }
def DecimalShowsCardSaid : Prop := Claim7.holds Tryz.pinned (.plain (OpenSpec.ofChange decimalShowsSpec)) decimalShowsCard

/-- THE TIED CARD OF 'rosettalaw04.DecimalMakes'. -/
def decimalMakesCard : Claim7 := { stood := { row := decimalMakesRow, standIns := [], harness := (true, "20c1512f9385255adbae54ba714a8c446a1f37dd6348f6474ed7f7a776f701cf"), looks := true }, kinds := [], alts := [], laidByText := true, laidKinds := [.data, .data, .data, .data, .sentinel, .sentinel, .pinned], laidTests := true, laidLooks := .later }
def DecimalMakesCardSaid : Prop := Claim7.holds Tryz.pinned (.plain (OpenSpec.ofChange decimalMakesSpec)) decimalMakesCard

/-- THE TIED CARD OF 'rosettalaw04.DecimalAdds'. -/
def decimalAddsCard : Claim7 := { stood := { row := decimalAddsRow, standIns := [], harness := (true, "20c1512f9385255adbae54ba714a8c446a1f37dd6348f6474ed7f7a776f701cf"), looks := true }, kinds := [], alts := [], laidByText := true, laidKinds := [.data, .data, .data, .data, .sentinel, .sentinel, .pinned], laidTests := true, laidLooks := .later }
def DecimalAddsCardSaid : Prop := Claim7.holds Tryz.pinned (.plain (OpenSpec.ofChange decimalAddsSpec)) decimalAddsCard

/-- THE TIED CARD OF 'rosettalaw04.DecimalLimits'. -/
def decimalLimitsCard : Claim7 := { stood := { row := decimalLimitsRow, standIns := [], harness := (true, "20c1512f9385255adbae54ba714a8c446a1f37dd6348f6474ed7f7a776f701cf"), looks := true }, kinds := [], alts := [], laidByText := true, laidKinds := [.data, .data, .data, .data, .sentinel, .sentinel, .pinned], laidTests := true, laidLooks := .later }
def DecimalLimitsCardSaid : Prop := Claim7.holds Tryz.pinned (.plain (OpenSpec.ofChange decimalLimitsSpec)) decimalLimitsCard

/-- THE TIED CARD OF 'rosettalaw04.DecimalRounds'. -/
def decimalRoundsCard : Claim7 := { stood := { row := decimalRoundsRow, standIns := [], harness := (true, "20c1512f9385255adbae54ba714a8c446a1f37dd6348f6474ed7f7a776f701cf"), looks := true }, kinds := [], alts := [], laidByText := true, laidKinds := [.data, .data, .data, .data, .sentinel, .sentinel, .pinned], laidTests := true, laidLooks := .later }
def DecimalRoundsCardSaid : Prop := Claim7.holds Tryz.pinned (.plain (OpenSpec.ofChange decimalRoundsSpec)) decimalRoundsCard

/-- THE TIED CARD OF 'rosettalaw04.DecimalLaws'. -/
def decimalLawsCard : Claim7 := { stood := { row := decimalLawsRow, standIns := [], harness := (true, "20c1512f9385255adbae54ba714a8c446a1f37dd6348f6474ed7f7a776f701cf"), looks := true }, kinds := [], alts := [], laidByText := true, laidKinds := [.data, .data, .data, .data, .sentinel, .sentinel, .pinned], laidTests := true, laidLooks := .later }
def DecimalLawsCardSaid : Prop := Claim7.holds Tryz.pinned (.plain (OpenSpec.ofChange decimalLawsSpec)) decimalLawsCard

/-- THE TIED CARD OF 'rosettalaw04.DecimalNear'. -/
def decimalNearCard : Claim7 := { stood := { row := decimalNearRow, standIns := [], harness := (true, "20c1512f9385255adbae54ba714a8c446a1f37dd6348f6474ed7f7a776f701cf"), looks := true }, kinds := [], alts := [], laidByText := true, laidKinds := [.data, .data, .data, .data, .sentinel, .sentinel, .pinned], laidTests := true, laidLooks := .later }
def DecimalNearCardSaid : Prop := Claim7.holds Tryz.pinned (.plain (OpenSpec.ofChange decimalNearSpec)) decimalNearCard

/-- THE SECOND FORM's CARD OF 'rosettalaw04.DecimalReads'. -/
def decimalReadsUptoCard : Claim7 := { stood := { row := decimalReadsUptoRow, standIns := [], harness := (true, "20c1512f9385255adbae54ba714a8c446a1f37dd6348f6474ed7f7a776f701cf"), looks := true }, kinds := [], alts := [], laidByText := true, laidKinds := [.data, .data, .data, .data, .sentinel, .sentinel, .pinned], laidTests := true, laidLooks := .later }
def DecimalReadsUptoCardSaid : Prop := Claim7.holds Tryz.pinned (.plain (OpenSpec.upto decimalReadsSpec)) decimalReadsUptoCard

/-- THE SECOND FORM's CARD OF 'rosettalaw04.DecimalShows'. -/
def decimalShowsUptoCard : Claim7 := { stood := { row := decimalShowsUptoRow, standIns := [], harness := (true, "20c1512f9385255adbae54ba714a8c446a1f37dd6348f6474ed7f7a776f701cf"), looks := true }, kinds := [], alts := [], laidByText := true, laidKinds := [.data, .data, .data, .data, .sentinel, .sentinel, .pinned], laidTests := true, laidLooks := .later }
def DecimalShowsUptoCardSaid : Prop := Claim7.holds Tryz.pinned (.plain (OpenSpec.upto decimalShowsSpec)) decimalShowsUptoCard

/-- THE SECOND FORM's CARD OF 'rosettalaw04.DecimalMakes'. -/
def decimalMakesUptoCard : Claim7 := { stood := { row := decimalMakesUptoRow, standIns := [], harness := (true, "20c1512f9385255adbae54ba714a8c446a1f37dd6348f6474ed7f7a776f701cf"), looks := true }, kinds := [], alts := [], laidByText := true, laidKinds := [.data, .data, .data, .data, .sentinel, .sentinel, .pinned], laidTests := true, laidLooks := .later }
def DecimalMakesUptoCardSaid : Prop := Claim7.holds Tryz.pinned (.plain (OpenSpec.upto decimalMakesSpec)) decimalMakesUptoCard

/-- THE SECOND FORM's CARD OF 'rosettalaw04.DecimalAdds'. -/
def decimalAddsUptoCard : Claim7 := { stood := { row := decimalAddsUptoRow, standIns := [], harness := (true, "20c1512f9385255adbae54ba714a8c446a1f37dd6348f6474ed7f7a776f701cf"), looks := true }, kinds := [], alts := [], laidByText := true, laidKinds := [.data, .data, .data, .data, .sentinel, .sentinel, .pinned], laidTests := true, laidLooks := .later }
def DecimalAddsUptoCardSaid : Prop := Claim7.holds Tryz.pinned (.plain (OpenSpec.upto decimalAddsSpec)) decimalAddsUptoCard

/-- THE SECOND FORM's CARD OF 'rosettalaw04.DecimalLimits'. -/
def decimalLimitsUptoCard : Claim7 := { stood := { row := decimalLimitsUptoRow, standIns := [], harness := (true, "20c1512f9385255adbae54ba714a8c446a1f37dd6348f6474ed7f7a776f701cf"), looks := true }, kinds := [], alts := [], laidByText := true, laidKinds := [.data, .data, .data, .data, .sentinel, .sentinel, .pinned], laidTests := true, laidLooks := .later }
def DecimalLimitsUptoCardSaid : Prop := Claim7.holds Tryz.pinned (.plain (OpenSpec.upto decimalLimitsSpec)) decimalLimitsUptoCard

/-- THE SECOND FORM's CARD OF 'rosettalaw04.DecimalRounds'. -/
def decimalRoundsUptoCard : Claim7 := { stood := { row := decimalRoundsUptoRow, standIns := [], harness := (true, "20c1512f9385255adbae54ba714a8c446a1f37dd6348f6474ed7f7a776f701cf"), looks := true }, kinds := [], alts := [], laidByText := true, laidKinds := [.data, .data, .data, .data, .sentinel, .sentinel, .pinned], laidTests := true, laidLooks := .later }
def DecimalRoundsUptoCardSaid : Prop := Claim7.holds Tryz.pinned (.plain (OpenSpec.upto decimalRoundsSpec)) decimalRoundsUptoCard

/-- THE SECOND FORM's CARD OF 'rosettalaw04.DecimalLaws'. -/
def decimalLawsUptoCard : Claim7 := { stood := { row := decimalLawsUptoRow, standIns := [], harness := (true, "20c1512f9385255adbae54ba714a8c446a1f37dd6348f6474ed7f7a776f701cf"), looks := true }, kinds := [], alts := [], laidByText := true, laidKinds := [.data, .data, .data, .data, .sentinel, .sentinel, .pinned], laidTests := true, laidLooks := .later }
def DecimalLawsUptoCardSaid : Prop := Claim7.holds Tryz.pinned (.plain (OpenSpec.upto decimalLawsSpec)) decimalLawsUptoCard

/-- THE SECOND FORM's CARD OF 'rosettalaw04.DecimalNear'. -/
def decimalNearUptoCard : Claim7 := { stood := { row := decimalNearUptoRow, standIns := [], harness := (true, "20c1512f9385255adbae54ba714a8c446a1f37dd6348f6474ed7f7a776f701cf"), looks := true }, kinds := [], alts := [], laidByText := true, laidKinds := [.data, .data, .data, .data, .sentinel, .sentinel, .pinned], laidTests := true, laidLooks := .later }
def DecimalNearUptoCardSaid : Prop := Claim7.holds Tryz.pinned (.plain (OpenSpec.upto decimalNearSpec)) decimalNearUptoCard
end Rows
end Go.Proofs.YtpankmaljafnnaaGreatDoor
