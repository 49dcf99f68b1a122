/-
  DERIVED. GIVEN WITH THE SEED: THE CARDS: each row of YtnngadbmfdfmfaaDoorRows.lean that lists a variable, with what it lists TIED to the program's text (the seventh form; the later family's looks); each row that meets fmt, with fmt's text TOLD by the authors' own Lean function (tested against real Go, not proved from fmt's source: count such statements apart). THE CARD IS WHAT COUNTS. Prove the row's statement (the work); the ties are given (YtnngadbmfdfmfaaDoorTie.lean); close each card by the builder's one call (the guide's Derived/Test/ToyasCard.lean, 'card_holds'). Laid BY PROGRAM, IN A SANDBOX (cutbox-door.mjs). By AI agents, Wed Nov 11 2026. No macro, syntax, notation, axiom, sorry.
-/
import Derived.Test.YtnngadbmfdfmfaaDoorRows
import GoSem.ClaimSeven
namespace Go.Proofs.YtnngadbmfdfmfaaDoor
namespace Rows

/-- THE TIED CARD OF 'rosettalaw09.DigestSums'. -/
def digestSumsCard : Claim7 := { stood := { row := digestSumsRow, standIns := [], harness := (true, "ab87a3e4c165d814058cae0b634a0cd95f65b41356dcdb34e8c84155c15636ed"), looks := false }, kinds := [], alts := [], laidByText := true, laidKinds := [.data, .data], laidTests := true, laidLooks := .later }
def DigestSumsCardSaid : Prop := Claim7.holds Tryd.pinned (.plain (OpenSpec.ofChange digestSumsSpec)) digestSumsCard

/-- THE TIED CARD OF 'rosettalaw09.DigestEdges'. -/
def digestEdgesCard : Claim7 := { stood := { row := digestEdgesRow, standIns := [], harness := (true, "ab87a3e4c165d814058cae0b634a0cd95f65b41356dcdb34e8c84155c15636ed"), looks := false }, kinds := [], alts := [], laidByText := true, laidKinds := [.data, .data], laidTests := true, laidLooks := .later }
def DigestEdgesCardSaid : Prop := Claim7.holds Tryd.pinned (.plain (OpenSpec.ofChange digestEdgesSpec)) digestEdgesCard

/-- THE TIED CARD OF 'rosettalaw09.DigestParts'. -/
def digestPartsCard : Claim7 := { stood := { row := digestPartsRow, standIns := [], harness := (true, "ab87a3e4c165d814058cae0b634a0cd95f65b41356dcdb34e8c84155c15636ed"), looks := false }, kinds := [], alts := [], laidByText := true, laidKinds := [.data, .data], laidTests := true, laidLooks := .later }
def DigestPartsCardSaid : Prop := Claim7.holds Tryd.pinned (.plain (OpenSpec.ofChange digestPartsSpec)) digestPartsCard

/-- THE TIED CARD OF 'rosettalaw09.DigestWrites'. -/
def digestWritesCard : Claim7 := { stood := { row := digestWritesRow, standIns := [], harness := (true, "ab87a3e4c165d814058cae0b634a0cd95f65b41356dcdb34e8c84155c15636ed"), looks := false }, kinds := [], alts := [], laidByText := true, laidKinds := [.data, .data], laidTests := true, laidLooks := .later }
def DigestWritesCardSaid : Prop := Claim7.holds Tryd.pinned (.plain (OpenSpec.ofChange digestWritesSpec)) digestWritesCard

/-- THE TIED CARD OF 'rosettalaw09.DigestBranches'. -/
def digestBranchesCard : Claim7 := { stood := { row := digestBranchesRow, standIns := [], harness := (true, "ab87a3e4c165d814058cae0b634a0cd95f65b41356dcdb34e8c84155c15636ed"), looks := false }, kinds := [], alts := [], laidByText := true, laidKinds := [.data, .data], laidTests := true, laidLooks := .later }
def DigestBranchesCardSaid : Prop := Claim7.holds Tryd.pinned (.plain (OpenSpec.ofChange digestBranchesSpec)) digestBranchesCard

/-- THE TIED CARD OF 'rosettalaw09.DigestZero'. -/
def digestZeroCard : Claim7 := { stood := { row := digestZeroRow, standIns := [], harness := (true, "ab87a3e4c165d814058cae0b634a0cd95f65b41356dcdb34e8c84155c15636ed"), looks := false }, kinds := [], alts := [], laidByText := true, laidKinds := [.data, .data, .data, .pinned], laidTests := true, laidLooks := .later }
def DigestZeroCardSaid : Prop := Claim7.holds Tryd.pinned (.plain (OpenSpec.ofChange digestZeroSpec)) digestZeroCard

/-- THE SECOND FORM's CARD OF 'rosettalaw09.DigestSums'. -/
def digestSumsUptoCard : Claim7 := { stood := { row := digestSumsUptoRow, standIns := [], harness := (true, "ab87a3e4c165d814058cae0b634a0cd95f65b41356dcdb34e8c84155c15636ed"), looks := false }, kinds := [], alts := [], laidByText := true, laidKinds := [.data, .data], laidTests := true, laidLooks := .later }
def DigestSumsUptoCardSaid : Prop := Claim7.holds Tryd.pinned (.plain (OpenSpec.upto digestSumsSpec)) digestSumsUptoCard

/-- THE SECOND FORM's CARD OF 'rosettalaw09.DigestEdges'. -/
def digestEdgesUptoCard : Claim7 := { stood := { row := digestEdgesUptoRow, standIns := [], harness := (true, "ab87a3e4c165d814058cae0b634a0cd95f65b41356dcdb34e8c84155c15636ed"), looks := false }, kinds := [], alts := [], laidByText := true, laidKinds := [.data, .data], laidTests := true, laidLooks := .later }
def DigestEdgesUptoCardSaid : Prop := Claim7.holds Tryd.pinned (.plain (OpenSpec.upto digestEdgesSpec)) digestEdgesUptoCard

/-- THE SECOND FORM's CARD OF 'rosettalaw09.DigestParts'. -/
def digestPartsUptoCard : Claim7 := { stood := { row := digestPartsUptoRow, standIns := [], harness := (true, "ab87a3e4c165d814058cae0b634a0cd95f65b41356dcdb34e8c84155c15636ed"), looks := false }, kinds := [], alts := [], laidByText := true, laidKinds := [.data, .data], laidTests := true, laidLooks := .later }
def DigestPartsUptoCardSaid : Prop := Claim7.holds Tryd.pinned (.plain (OpenSpec.upto digestPartsSpec)) digestPartsUptoCard

/-- THE SECOND FORM's CARD OF 'rosettalaw09.DigestWrites'. -/
def digestWritesUptoCard : Claim7 := { stood := { row := digestWritesUptoRow, standIns := [], harness := (true, "ab87a3e4c165d814058cae0b634a0cd95f65b41356dcdb34e8c84155c15636ed"), looks := false }, kinds := [], alts := [], laidByText := true, laidKinds := [.data, .data], laidTests := true, laidLooks := .later }
def DigestWritesUptoCardSaid : Prop := Claim7.holds Tryd.pinned (.plain (OpenSpec.upto digestWritesSpec)) digestWritesUptoCard

/-- THE SECOND FORM's CARD OF 'rosettalaw09.DigestBranches'. -/
def digestBranchesUptoCard : Claim7 := { stood := { row := digestBranchesUptoRow, standIns := [], harness := (true, "ab87a3e4c165d814058cae0b634a0cd95f65b41356dcdb34e8c84155c15636ed"), looks := false }, kinds := [], alts := [], laidByText := true, laidKinds := [.data, .data], laidTests := true, laidLooks := .later }
def DigestBranchesUptoCardSaid : Prop := Claim7.holds Tryd.pinned (.plain (OpenSpec.upto digestBranchesSpec)) digestBranchesUptoCard

/-- THE SECOND FORM's CARD OF 'rosettalaw09.DigestZero'. -/
def digestZeroUptoCard : Claim7 := { stood := { row := digestZeroUptoRow, standIns := [], harness := (true, "ab87a3e4c165d814058cae0b634a0cd95f65b41356dcdb34e8c84155c15636ed"), looks := false }, kinds := [], alts := [], laidByText := true, laidKinds := [.data, .data, .data, .pinned], laidTests := true, laidLooks := .later }
def DigestZeroUptoCardSaid : Prop := Claim7.holds Tryd.pinned (.plain (OpenSpec.upto digestZeroSpec)) digestZeroUptoCard
end Rows
end Go.Proofs.YtnngadbmfdfmfaaDoor
