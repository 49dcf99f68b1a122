/-
  DERIVED. GIVEN WITH THE SEED: THE CARDS: each row of YtmnopohjnbpinaaDoorRows.lean that lists a variable, with what it lists TIED to the program's text (the seventh form; the later family's looks); each row that meets fmt, with fmt's text TOLD by the authors' own Lean function (tested against real Go, not proved from fmt's source: count such statements apart). THE CARD IS WHAT COUNTS. Prove the row's statement (the work); the ties are given (YtmnopohjnbpinaaDoorTie.lean); close each card by the builder's one call (the guide's Derived/Test/ToyasCard.lean, 'card_holds'). Laid BY PROGRAM, IN A SANDBOX (cutbox-door.mjs). By AI agents, Wed Nov 11 2026. No macro, syntax, notation, axiom, sorry.
-/
import Derived.Test.YtmnopohjnbpinaaDoorRows
import GoSem.ClaimSeven
namespace Go.Proofs.YtmnopohjnbpinaaDoor
namespace Rows

/-- THE TIED CARD OF 'rosettalaw06.CivilDays'. -/
def civilDaysCard : Claim7 := { stood := { row := civilDaysRow, standIns := [], harness := (true, "060950816f6254bd1e01af1e2413dd416ef34863672c138833098b03a3bf2b02"), looks := false }, kinds := [], alts := [], laidByText := true, laidKinds := [.data], laidTests := true, laidLooks := .later }
def CivilDaysCardSaid : Prop := Claim7.holds Tryd.pinned (.plain (OpenSpec.ofChange civilDaysSpec)) civilDaysCard

/-- THE TIED CARD OF 'rosettalaw06.CivilDates'. -/
def civilDatesCard : Claim7 := { stood := { row := civilDatesRow, standIns := [], harness := (true, "060950816f6254bd1e01af1e2413dd416ef34863672c138833098b03a3bf2b02"), looks := false }, kinds := [], alts := [], laidByText := true, laidKinds := [.data], laidTests := true, laidLooks := .later }
def CivilDatesCardSaid : Prop := Claim7.holds Tryd.pinned (.plain (OpenSpec.ofChange civilDatesSpec)) civilDatesCard

/-- THE TIED CARD OF 'rosettalaw06.CivilTrips'. -/
def civilTripsCard : Claim7 := { stood := { row := civilTripsRow, standIns := [], harness := (true, "060950816f6254bd1e01af1e2413dd416ef34863672c138833098b03a3bf2b02"), looks := false }, kinds := [], alts := [], laidByText := true, laidKinds := [.data], laidTests := true, laidLooks := .later }
def CivilTripsCardSaid : Prop := Claim7.holds Tryd.pinned (.plain (OpenSpec.ofChange civilTripsSpec)) civilTripsCard

/-- THE TIED CARD OF 'rosettalaw06.CivilWeeks'. -/
def civilWeeksCard : Claim7 := { stood := { row := civilWeeksRow, standIns := [], harness := (true, "060950816f6254bd1e01af1e2413dd416ef34863672c138833098b03a3bf2b02"), looks := false }, kinds := [], alts := [], laidByText := true, laidKinds := [.data], laidTests := true, laidLooks := .later }
def CivilWeeksCardSaid : Prop := Claim7.holds Tryd.pinned (.plain (OpenSpec.ofChange civilWeeksSpec)) civilWeeksCard

/-- THE TIED CARD OF 'rosettalaw06.CivilOrders'. -/
def civilOrdersCard : Claim7 := { stood := { row := civilOrdersRow, standIns := [], harness := (true, "060950816f6254bd1e01af1e2413dd416ef34863672c138833098b03a3bf2b02"), looks := false }, kinds := [], alts := [], laidByText := true, laidKinds := [.data], laidTests := true, laidLooks := .later }
def CivilOrdersCardSaid : Prop := Claim7.holds Tryd.pinned (.plain (OpenSpec.ofChange civilOrdersSpec)) civilOrdersCard

/-- THE TIED CARD OF 'rosettalaw06.CivilCycles'. -/
def civilCyclesCard : Claim7 := { stood := { row := civilCyclesRow, standIns := [], harness := (true, "060950816f6254bd1e01af1e2413dd416ef34863672c138833098b03a3bf2b02"), looks := false }, kinds := [], alts := [], laidByText := true, laidKinds := [.data], laidTests := true, laidLooks := .later }
def CivilCyclesCardSaid : Prop := Claim7.holds Tryd.pinned (.plain (OpenSpec.ofChange civilCyclesSpec)) civilCyclesCard

/-- THE TIED CARD OF 'rosettalaw06.CivilLeaps'. -/
def civilLeapsCard : Claim7 := { stood := { row := civilLeapsRow, standIns := [], harness := (true, "060950816f6254bd1e01af1e2413dd416ef34863672c138833098b03a3bf2b02"), looks := false }, kinds := [], alts := [], laidByText := true, laidKinds := [.data], laidTests := true, laidLooks := .later }
def CivilLeapsCardSaid : Prop := Claim7.holds Tryd.pinned (.plain (OpenSpec.ofChange civilLeapsSpec)) civilLeapsCard

/-- THE SECOND FORM's CARD OF 'rosettalaw06.CivilDays'. -/
def civilDaysUptoCard : Claim7 := { stood := { row := civilDaysUptoRow, standIns := [], harness := (true, "060950816f6254bd1e01af1e2413dd416ef34863672c138833098b03a3bf2b02"), looks := false }, kinds := [], alts := [], laidByText := true, laidKinds := [.data], laidTests := true, laidLooks := .later }
def CivilDaysUptoCardSaid : Prop := Claim7.holds Tryd.pinned (.plain (OpenSpec.upto civilDaysSpec)) civilDaysUptoCard

/-- THE SECOND FORM's CARD OF 'rosettalaw06.CivilDates'. -/
def civilDatesUptoCard : Claim7 := { stood := { row := civilDatesUptoRow, standIns := [], harness := (true, "060950816f6254bd1e01af1e2413dd416ef34863672c138833098b03a3bf2b02"), looks := false }, kinds := [], alts := [], laidByText := true, laidKinds := [.data], laidTests := true, laidLooks := .later }
def CivilDatesUptoCardSaid : Prop := Claim7.holds Tryd.pinned (.plain (OpenSpec.upto civilDatesSpec)) civilDatesUptoCard

/-- THE SECOND FORM's CARD OF 'rosettalaw06.CivilTrips'. -/
def civilTripsUptoCard : Claim7 := { stood := { row := civilTripsUptoRow, standIns := [], harness := (true, "060950816f6254bd1e01af1e2413dd416ef34863672c138833098b03a3bf2b02"), looks := false }, kinds := [], alts := [], laidByText := true, laidKinds := [.data], laidTests := true, laidLooks := .later }
def CivilTripsUptoCardSaid : Prop := Claim7.holds Tryd.pinned (.plain (OpenSpec.upto civilTripsSpec)) civilTripsUptoCard

/-- THE SECOND FORM's CARD OF 'rosettalaw06.CivilWeeks'. -/
def civilWeeksUptoCard : Claim7 := { stood := { row := civilWeeksUptoRow, standIns := [], harness := (true, "060950816f6254bd1e01af1e2413dd416ef34863672c138833098b03a3bf2b02"), looks := false }, kinds := [], alts := [], laidByText := true, laidKinds := [.data], laidTests := true, laidLooks := .later }
def CivilWeeksUptoCardSaid : Prop := Claim7.holds Tryd.pinned (.plain (OpenSpec.upto civilWeeksSpec)) civilWeeksUptoCard

/-- THE SECOND FORM's CARD OF 'rosettalaw06.CivilOrders'. -/
def civilOrdersUptoCard : Claim7 := { stood := { row := civilOrdersUptoRow, standIns := [], harness := (true, "060950816f6254bd1e01af1e2413dd416ef34863672c138833098b03a3bf2b02"), looks := false }, kinds := [], alts := [], laidByText := true, laidKinds := [.data], laidTests := true, laidLooks := .later }
def CivilOrdersUptoCardSaid : Prop := Claim7.holds Tryd.pinned (.plain (OpenSpec.upto civilOrdersSpec)) civilOrdersUptoCard

/-- THE SECOND FORM's CARD OF 'rosettalaw06.CivilCycles'. -/
def civilCyclesUptoCard : Claim7 := { stood := { row := civilCyclesUptoRow, standIns := [], harness := (true, "060950816f6254bd1e01af1e2413dd416ef34863672c138833098b03a3bf2b02"), looks := false }, kinds := [], alts := [], laidByText := true, laidKinds := [.data], laidTests := true, laidLooks := .later }
def CivilCyclesUptoCardSaid : Prop := Claim7.holds Tryd.pinned (.plain (OpenSpec.upto civilCyclesSpec)) civilCyclesUptoCard

/-- THE SECOND FORM's CARD OF 'rosettalaw06.CivilLeaps'. -/
def civilLeapsUptoCard : Claim7 := { stood := { row := civilLeapsUptoRow, standIns := [], harness := (true, "060950816f6254bd1e01af1e2413dd416ef34863672c138833098b03a3bf2b02"), looks := false }, kinds := [], alts := [], laidByText := true, laidKinds := [.data], laidTests := true, laidLooks := .later }
def CivilLeapsUptoCardSaid : Prop := Claim7.holds Tryd.pinned (.plain (OpenSpec.upto civilLeapsSpec)) civilLeapsUptoCard
end Rows
end Go.Proofs.YtmnopohjnbpinaaDoor
