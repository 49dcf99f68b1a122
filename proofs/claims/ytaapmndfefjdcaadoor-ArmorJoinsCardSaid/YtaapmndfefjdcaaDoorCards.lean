/-
  DERIVED. GIVEN WITH THE SEED: THE CARDS: each row of YtaapmndfefjdcaaDoorRows.lean that lists a variable, with what it lists TIED to the program's text (the seventh form; the later family's looks); each row that meets fmt, with fmt's text TOLD by the authors' own Lean function (tested against real Go, not proved from fmt's source: count such statements apart). THE CARD IS WHAT COUNTS. Prove the row's statement (the work); the ties are given (YtaapmndfefjdcaaDoorTie.lean); close each card by the builder's one call (the guide's Derived/Test/ToyasCard.lean, 'card_holds'). Laid BY PROGRAM, IN A SANDBOX (cutbox-door.mjs). By AI agents, Wed Nov 11 2026. No macro, syntax, notation, axiom, sorry.
-/
import Derived.Test.YtaapmndfefjdcaaDoorRows
import GoSem.ClaimSeven
namespace Go.Proofs.YtaapmndfefjdcaaDoor
namespace Rows

/-- THE TIED CARD OF 'rosettalaw08.ArmorHex'. -/
def armorHexCard : Claim7 := { stood := { row := armorHexRow, standIns := [], harness := (true, "523efc7c67a4ddc4a9b20523c70f21e221938e339ccf78d50c1ca53580e6b9ae"), looks := false }, kinds := [], alts := [], laidByText := true, laidKinds := [.data, .pinned], laidTests := true, laidLooks := .later }
def ArmorHexCardSaid : Prop := Claim7.holds Tryd.pinned (.plain (OpenSpec.ofChange armorHexSpec)) armorHexCard

/-- THE TIED CARD OF 'rosettalaw08.ArmorUnhexes'. -/
def armorUnhexesCard : Claim7 := { stood := { row := armorUnhexesRow, standIns := [], harness := (true, "523efc7c67a4ddc4a9b20523c70f21e221938e339ccf78d50c1ca53580e6b9ae"), looks := false }, kinds := [], alts := [], laidByText := true, laidKinds := [.data, .pinned], laidTests := true, laidLooks := .later }
def ArmorUnhexesCardSaid : Prop := Claim7.holds Tryd.pinned (.plain (OpenSpec.ofChange armorUnhexesSpec)) armorUnhexesCard

/-- THE TIED CARD OF 'rosettalaw08.ArmorBase'. -/
def armorBaseCard : Claim7 := { stood := { row := armorBaseRow, standIns := [], harness := (true, "523efc7c67a4ddc4a9b20523c70f21e221938e339ccf78d50c1ca53580e6b9ae"), looks := false }, kinds := [], alts := [], laidByText := true, laidKinds := [.data, .pinned], laidTests := true, laidLooks := .later }
def ArmorBaseCardSaid : Prop := Claim7.holds Tryd.pinned (.plain (OpenSpec.ofChange armorBaseSpec)) armorBaseCard

/-- THE TIED CARD OF 'rosettalaw08.ArmorUnbases'. -/
def armorUnbasesCard : Claim7 := { stood := { row := armorUnbasesRow, standIns := [], harness := (true, "523efc7c67a4ddc4a9b20523c70f21e221938e339ccf78d50c1ca53580e6b9ae"), looks := false }, kinds := [], alts := [], laidByText := true, laidKinds := [.data, .pinned], laidTests := true, laidLooks := .later }
def ArmorUnbasesCardSaid : Prop := Claim7.holds Tryd.pinned (.plain (OpenSpec.ofChange armorUnbasesSpec)) armorUnbasesCard

/-- THE TIED CARD OF 'rosettalaw08.ArmorFolds'. -/
def armorFoldsCard : Claim7 := { stood := { row := armorFoldsRow, standIns := [], harness := (true, "523efc7c67a4ddc4a9b20523c70f21e221938e339ccf78d50c1ca53580e6b9ae"), looks := false }, kinds := [], alts := [], laidByText := true, laidKinds := [.data, .pinned], laidTests := true, laidLooks := .later }
def ArmorFoldsCardSaid : Prop := Claim7.holds Tryd.pinned (.plain (OpenSpec.ofChange armorFoldsSpec)) armorFoldsCard

/-- THE TIED CARD OF 'rosettalaw08.ArmorLengths'. -/
def armorLengthsCard : Claim7 := { stood := { row := armorLengthsRow, standIns := [], harness := (true, "523efc7c67a4ddc4a9b20523c70f21e221938e339ccf78d50c1ca53580e6b9ae"), looks := false }, kinds := [], alts := [], laidByText := true, laidKinds := [.data, .pinned], laidTests := true, laidLooks := .later }
def ArmorLengthsCardSaid : Prop := Claim7.holds Tryd.pinned (.plain (OpenSpec.ofChange armorLengthsSpec)) armorLengthsCard

/-- THE TIED CARD OF 'rosettalaw08.ArmorJoins'. -/
def armorJoinsCard : Claim7 := { stood := { row := armorJoinsRow, standIns := [], harness := (true, "523efc7c67a4ddc4a9b20523c70f21e221938e339ccf78d50c1ca53580e6b9ae"), looks := false }, kinds := [], alts := [], laidByText := true, laidKinds := [.data, .pinned], laidTests := true, laidLooks := .later }
def ArmorJoinsCardSaid : Prop := Claim7.holds Tryd.pinned (.plain (OpenSpec.ofChange armorJoinsSpec)) armorJoinsCard

/-- THE SECOND FORM's CARD OF 'rosettalaw08.ArmorHex'. -/
def armorHexUptoCard : Claim7 := { stood := { row := armorHexUptoRow, standIns := [], harness := (true, "523efc7c67a4ddc4a9b20523c70f21e221938e339ccf78d50c1ca53580e6b9ae"), looks := false }, kinds := [], alts := [], laidByText := true, laidKinds := [.data, .pinned], laidTests := true, laidLooks := .later }
def ArmorHexUptoCardSaid : Prop := Claim7.holds Tryd.pinned (.plain (OpenSpec.upto armorHexSpec)) armorHexUptoCard

/-- THE SECOND FORM's CARD OF 'rosettalaw08.ArmorUnhexes'. -/
def armorUnhexesUptoCard : Claim7 := { stood := { row := armorUnhexesUptoRow, standIns := [], harness := (true, "523efc7c67a4ddc4a9b20523c70f21e221938e339ccf78d50c1ca53580e6b9ae"), looks := false }, kinds := [], alts := [], laidByText := true, laidKinds := [.data, .pinned], laidTests := true, laidLooks := .later }
def ArmorUnhexesUptoCardSaid : Prop := Claim7.holds Tryd.pinned (.plain (OpenSpec.upto armorUnhexesSpec)) armorUnhexesUptoCard

/-- THE SECOND FORM's CARD OF 'rosettalaw08.ArmorBase'. -/
def armorBaseUptoCard : Claim7 := { stood := { row := armorBaseUptoRow, standIns := [], harness := (true, "523efc7c67a4ddc4a9b20523c70f21e221938e339ccf78d50c1ca53580e6b9ae"), looks := false }, kinds := [], alts := [], laidByText := true, laidKinds := [.data, .pinned], laidTests := true, laidLooks := .later }
def ArmorBaseUptoCardSaid : Prop := Claim7.holds Tryd.pinned (.plain (OpenSpec.upto armorBaseSpec)) armorBaseUptoCard

/-- THE SECOND FORM's CARD OF 'rosettalaw08.ArmorUnbases'. -/
def armorUnbasesUptoCard : Claim7 := { stood := { row := armorUnbasesUptoRow, standIns := [], harness := (true, "523efc7c67a4ddc4a9b20523c70f21e221938e339ccf78d50c1ca53580e6b9ae"), looks := false }, kinds := [], alts := [], laidByText := true, laidKinds := [.data, .pinned], laidTests := true, laidLooks := .later }
def ArmorUnbasesUptoCardSaid : Prop := Claim7.holds Tryd.pinned (.plain (OpenSpec.upto armorUnbasesSpec)) armorUnbasesUptoCard

/-- THE SECOND FORM's CARD OF 'rosettalaw08.ArmorFolds'. -/
def armorFoldsUptoCard : Claim7 := { stood := { row := armorFoldsUptoRow, standIns := [], harness := (true, "523efc7c67a4ddc4a9b20523c70f21e221938e339ccf78d50c1ca53580e6b9ae"), looks := false }, kinds := [], alts := [], laidByText := true, laidKinds := [.data, .pinned], laidTests := true, laidLooks := .later }
def ArmorFoldsUptoCardSaid : Prop := Claim7.holds Tryd.pinned (.plain (OpenSpec.upto armorFoldsSpec)) armorFoldsUptoCard

/-- THE SECOND FORM's CARD OF 'rosettalaw08.ArmorLengths'. -/
def armorLengthsUptoCard : Claim7 := { stood := { row := armorLengthsUptoRow, standIns := [], harness := (true, "523efc7c67a4ddc4a9b20523c70f21e221938e339ccf78d50c1ca53580e6b9ae"), looks := false }, kinds := [], alts := [], laidByText := true, laidKinds := [.data, .pinned], laidTests := true, laidLooks := .later }
def ArmorLengthsUptoCardSaid : Prop := Claim7.holds Tryd.pinned (.plain (OpenSpec.upto armorLengthsSpec)) armorLengthsUptoCard

/-- THE SECOND FORM's CARD OF 'rosettalaw08.ArmorJoins'. -/
def armorJoinsUptoCard : Claim7 := { stood := { row := armorJoinsUptoRow, standIns := [], harness := (true, "523efc7c67a4ddc4a9b20523c70f21e221938e339ccf78d50c1ca53580e6b9ae"), looks := false }, kinds := [], alts := [], laidByText := true, laidKinds := [.data, .pinned], laidTests := true, laidLooks := .later }
def ArmorJoinsUptoCardSaid : Prop := Claim7.holds Tryd.pinned (.plain (OpenSpec.upto armorJoinsSpec)) armorJoinsUptoCard
end Rows
end Go.Proofs.YtaapmndfefjdcaaDoor
