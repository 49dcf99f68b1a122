/-
  NARROWER THAN 'FOR EVERY INPUT', by the rows' own cells (each row's printed sentence says how): DigestSums: laid · DigestEdges: laid · DigestParts: laid · DigestWrites: laid · DigestBranches: laid · DigestZero: laid.
  DERIVED. THE GIVEN ROWS OF THIS SEAT. 6 by the template 'for every input the law returns true; each argument reads behind the call as it read before'; 0 by the template 'total and deterministic' (their statements: YtnngadbmfdfmfaaDoorTotals.lean).
  GIVEN WITH THE SEED: the statements are not yours to turn. If you find one false, say at which input.
  Laid BY PROGRAM, IN A SANDBOX (cutbox-rows.mjs): the forced cells as the released guide's own fill.sh prints them over the translation 4632a91a4adb4f02… (all of the seat's roots in one cut). By AI agents, Wed Nov 11 2026. No macro, syntax, notation, axiom, sorry.
-/
import Derived.Test.YtnngadbmfdfmfaaDoorChecked
import GoSem.PinnedTables
import GoSem.Claim
import GoSem.ClaimJoined
import GoSem.ClaimMapViews
import Derived.JoinedTies
import Derived.KernelRfl
namespace Go.Proofs.YtnngadbmfdfmfaaDoor
/- THE CELL 'sum', in the pinned program and in every row, IS THE sha256 OF THE DUMP (.gsa) THAT YtnngadbmfdfmfaaDoorProg.lean LOADS. Nothing in Lean hashes anything: it is a label: what it is worth is what the hold of that sum in a sandbox is worth. -/
noncomputable def Tryd.pinned : Pinned := { name := "ytnngadbmfdfmfaadoor", sum := "4632a91a4adb4f025d8e5051a1207d00b767106505c2f8ddb6dfe37f2b0ae276", checked := Tryd.checked }
namespace Rows
def none {H : Type} : Left H := { results := [], args := [] }

/- WHAT THE LISTED PACKAGE-LEVEL VARIABLES READ AS WHEN THE CALL BEGINS. Each datum BY PROGRAM (the guide's laid-datum.mjs) off the statement by which the dump's own 'gosem.cut.vars' lays the variable. In a bare row this is a premise. The card (YtnngadbmfdfmfaaDoorCards.lean) ties it to the program's text. -/
def laid_rosetta_digest_firstState {H : Type} : DataW H := .agg [.lit (.int .u32 1779033703), .lit (.int .u32 3144134277), .lit (.int .u32 1013904242), .lit (.int .u32 2773480762), .lit (.int .u32 1359893119), .lit (.int .u32 2600822924), .lit (.int .u32 528734635), .lit (.int .u32 1541459225)]
def laid_rosetta_digest_roundConstants {H : Type} : DataW H := .agg [.lit (.int .u32 1116352408), .lit (.int .u32 1899447441), .lit (.int .u32 3049323471), .lit (.int .u32 3921009573), .lit (.int .u32 961987163), .lit (.int .u32 1508970993), .lit (.int .u32 2453635748), .lit (.int .u32 2870763221), .lit (.int .u32 3624381080), .lit (.int .u32 310598401), .lit (.int .u32 607225278), .lit (.int .u32 1426881987), .lit (.int .u32 1925078388), .lit (.int .u32 2162078206), .lit (.int .u32 2614888103), .lit (.int .u32 3248222580), .lit (.int .u32 3835390401), .lit (.int .u32 4022224774), .lit (.int .u32 264347078), .lit (.int .u32 604807628), .lit (.int .u32 770255983), .lit (.int .u32 1249150122), .lit (.int .u32 1555081692), .lit (.int .u32 1996064986), .lit (.int .u32 2554220882), .lit (.int .u32 2821834349), .lit (.int .u32 2952996808), .lit (.int .u32 3210313671), .lit (.int .u32 3336571891), .lit (.int .u32 3584528711), .lit (.int .u32 113926993), .lit (.int .u32 338241895), .lit (.int .u32 666307205), .lit (.int .u32 773529912), .lit (.int .u32 1294757372), .lit (.int .u32 1396182291), .lit (.int .u32 1695183700), .lit (.int .u32 1986661051), .lit (.int .u32 2177026350), .lit (.int .u32 2456956037), .lit (.int .u32 2730485921), .lit (.int .u32 2820302411), .lit (.int .u32 3259730800), .lit (.int .u32 3345764771), .lit (.int .u32 3516065817), .lit (.int .u32 3600352804), .lit (.int .u32 4094571909), .lit (.int .u32 275423344), .lit (.int .u32 430227734), .lit (.int .u32 506948616), .lit (.int .u32 659060556), .lit (.int .u32 883997877), .lit (.int .u32 958139571), .lit (.int .u32 1322822218), .lit (.int .u32 1537002063), .lit (.int .u32 1747873779), .lit (.int .u32 1955562222), .lit (.int .u32 2024104815), .lit (.int .u32 2227730452), .lit (.int .u32 2361852424), .lit (.int .u32 2428436474), .lit (.int .u32 2756734187), .lit (.int .u32 3204031479), .lit (.int .u32 3329325298)]
def laid_unicode_utf8_acceptRanges {H : Type} : DataW H := .agg [.agg [.lit (.int .u8 128), .lit (.int .u8 191)], .agg [.lit (.int .u8 160), .lit (.int .u8 191)], .agg [.lit (.int .u8 128), .lit (.int .u8 159)], .agg [.lit (.int .u8 144), .lit (.int .u8 191)], .agg [.lit (.int .u8 128), .lit (.int .u8 143)], .agg [.lit (.int .u8 0), .lit (.int .u8 0)], .agg [.lit (.int .u8 0), .lit (.int .u8 0)], .agg [.lit (.int .u8 0), .lit (.int .u8 0)], .agg [.lit (.int .u8 0), .lit (.int .u8 0)], .agg [.lit (.int .u8 0), .lit (.int .u8 0)], .agg [.lit (.int .u8 0), .lit (.int .u8 0)], .agg [.lit (.int .u8 0), .lit (.int .u8 0)], .agg [.lit (.int .u8 0), .lit (.int .u8 0)], .agg [.lit (.int .u8 0), .lit (.int .u8 0)], .agg [.lit (.int .u8 0), .lit (.int .u8 0)], .agg [.lit (.int .u8 0), .lit (.int .u8 0)]]
/-- One of Go's own tables, pinned by name: the form's constant. -/
def laid_unicode_utf8_first : DataW Unit := Go.Pinned.utf8First

/-- 'rosettalaw09.DigestSums': WHATEVER THE INPUT: true; the input reads as it did. -/
def digestSumsSpec : ChangeSpec := { name := "digestSums", fn := fun _ => fun
  | [d] => { results := [.lit (.bool true)], args := [d] }
  | _ => none }
def digestSumsRow : OpenClaim := { program := "ytnngadbmfdfmfaadoor", sum := "4632a91a4adb4f025d8e5051a1207d00b767106505c2f8ddb6dfe37f2b0ae276", func := "rosetta/rosettalaw09.DigestSums", spec := "digestSums", named := ["rosetta/digest.firstState", "rosetta/digest.roundConstants"], apart := false, laid := [("rosetta/digest.firstState", laid_rosetta_digest_firstState), ("rosetta/digest.roundConstants", laid_rosetta_digest_roundConstants)] }
def DigestSumsSaid : Prop := digestSumsRow.holds Tryd.pinned (OpenSpec.ofChange digestSumsSpec)

/-- ITS FALSE NEIGHBOUR: 'it returns false'. Refute it at one input. -/
def digestSumsWrong : ChangeSpec := { name := "digestSums", fn := fun _ => fun
  | [d] => { results := [.lit (.bool false)], args := [d] }
  | _ => none }
def DigestSumsWrongFalsely : Prop := digestSumsRow.holds Tryd.pinned (OpenSpec.ofChange digestSumsWrong)

/-- 'rosettalaw09.DigestEdges': WHATEVER THE INPUT: true; the input reads as it did. -/
def digestEdgesSpec : ChangeSpec := { name := "digestEdges", fn := fun _ => fun
  | [d1, d2, d3] => { results := [.lit (.bool true)], args := [d1, d2, d3] }
  | _ => none }
def digestEdgesRow : OpenClaim := { program := "ytnngadbmfdfmfaadoor", sum := "4632a91a4adb4f025d8e5051a1207d00b767106505c2f8ddb6dfe37f2b0ae276", func := "rosetta/rosettalaw09.DigestEdges", spec := "digestEdges", named := ["rosetta/digest.firstState", "rosetta/digest.roundConstants"], apart := false, laid := [("rosetta/digest.firstState", laid_rosetta_digest_firstState), ("rosetta/digest.roundConstants", laid_rosetta_digest_roundConstants)] }
def DigestEdgesSaid : Prop := digestEdgesRow.holds Tryd.pinned (OpenSpec.ofChange digestEdgesSpec)

/-- ITS FALSE NEIGHBOUR: 'it returns false'. Refute it at one input. -/
def digestEdgesWrong : ChangeSpec := { name := "digestEdges", fn := fun _ => fun
  | [d1, d2, d3] => { results := [.lit (.bool false)], args := [d1, d2, d3] }
  | _ => none }
def DigestEdgesWrongFalsely : Prop := digestEdgesRow.holds Tryd.pinned (OpenSpec.ofChange digestEdgesWrong)

/-- 'rosettalaw09.DigestParts': WHATEVER THE INPUT: true; the input reads as it did. -/
def digestPartsSpec : ChangeSpec := { name := "digestParts", fn := fun _ => fun
  | [d] => { results := [.lit (.bool true)], args := [d] }
  | _ => none }
def digestPartsRow : OpenClaim := { program := "ytnngadbmfdfmfaadoor", sum := "4632a91a4adb4f025d8e5051a1207d00b767106505c2f8ddb6dfe37f2b0ae276", func := "rosetta/rosettalaw09.DigestParts", spec := "digestParts", inPlace := ["internal/abi.NoEscape", "internal/bytealg.MakeNoZero"], named := ["rosetta/digest.firstState", "rosetta/digest.roundConstants"], apart := false, laid := [("rosetta/digest.firstState", laid_rosetta_digest_firstState), ("rosetta/digest.roundConstants", laid_rosetta_digest_roundConstants)] }
def DigestPartsSaid : Prop := digestPartsRow.holds Tryd.pinned (OpenSpec.ofChange digestPartsSpec)

/-- ITS FALSE NEIGHBOUR: 'it returns false'. Refute it at one input. -/
def digestPartsWrong : ChangeSpec := { name := "digestParts", fn := fun _ => fun
  | [d] => { results := [.lit (.bool false)], args := [d] }
  | _ => none }
def DigestPartsWrongFalsely : Prop := digestPartsRow.holds Tryd.pinned (OpenSpec.ofChange digestPartsWrong)

/-- 'rosettalaw09.DigestWrites': WHATEVER THE INPUT: true; the input reads as it did. -/
def digestWritesSpec : ChangeSpec := { name := "digestWrites", fn := fun _ => fun
  | [d] => { results := [.lit (.bool true)], args := [d] }
  | _ => none }
def digestWritesRow : OpenClaim := { program := "ytnngadbmfdfmfaadoor", sum := "4632a91a4adb4f025d8e5051a1207d00b767106505c2f8ddb6dfe37f2b0ae276", func := "rosetta/rosettalaw09.DigestWrites", spec := "digestWrites", inPlace := ["internal/abi.NoEscape", "internal/bytealg.MakeNoZero"], named := ["rosetta/digest.firstState", "rosetta/digest.roundConstants"], apart := false, laid := [("rosetta/digest.firstState", laid_rosetta_digest_firstState), ("rosetta/digest.roundConstants", laid_rosetta_digest_roundConstants)] }
def DigestWritesSaid : Prop := digestWritesRow.holds Tryd.pinned (OpenSpec.ofChange digestWritesSpec)

/-- ITS FALSE NEIGHBOUR: 'it returns false'. Refute it at one input. -/
def digestWritesWrong : ChangeSpec := { name := "digestWrites", fn := fun _ => fun
  | [d] => { results := [.lit (.bool false)], args := [d] }
  | _ => none }
def DigestWritesWrongFalsely : Prop := digestWritesRow.holds Tryd.pinned (OpenSpec.ofChange digestWritesWrong)

/-- 'rosettalaw09.DigestBranches': WHATEVER THE INPUT: true; the input reads as it did. -/
def digestBranchesSpec : ChangeSpec := { name := "digestBranches", fn := fun _ => fun
  | [d1, d2, d3] => { results := [.lit (.bool true)], args := [d1, d2, d3] }
  | _ => none }
def digestBranchesRow : OpenClaim := { program := "ytnngadbmfdfmfaadoor", sum := "4632a91a4adb4f025d8e5051a1207d00b767106505c2f8ddb6dfe37f2b0ae276", func := "rosetta/rosettalaw09.DigestBranches", spec := "digestBranches", named := ["rosetta/digest.firstState", "rosetta/digest.roundConstants"], apart := false, laid := [("rosetta/digest.firstState", laid_rosetta_digest_firstState), ("rosetta/digest.roundConstants", laid_rosetta_digest_roundConstants)] }
def DigestBranchesSaid : Prop := digestBranchesRow.holds Tryd.pinned (OpenSpec.ofChange digestBranchesSpec)

/-- ITS FALSE NEIGHBOUR: 'it returns false'. Refute it at one input. -/
def digestBranchesWrong : ChangeSpec := { name := "digestBranches", fn := fun _ => fun
  | [d1, d2, d3] => { results := [.lit (.bool false)], args := [d1, d2, d3] }
  | _ => none }
def DigestBranchesWrongFalsely : Prop := digestBranchesRow.holds Tryd.pinned (OpenSpec.ofChange digestBranchesWrong)

/-- 'rosettalaw09.DigestZero': WHATEVER THE INPUT: true; the input reads as it did. -/
def digestZeroSpec : ChangeSpec := { name := "digestZero", fn := fun _ => fun
  | [d] => { results := [.lit (.bool true)], args := [d] }
  | _ => none }
def digestZeroRow : OpenClaim := { program := "ytnngadbmfdfmfaadoor", sum := "4632a91a4adb4f025d8e5051a1207d00b767106505c2f8ddb6dfe37f2b0ae276", func := "rosetta/rosettalaw09.DigestZero", spec := "digestZero", inPlace := ["internal/bytealg.IndexByteString", "internal/bytealg.IndexString"], named := ["rosetta/digest.firstState", "rosetta/digest.roundConstants", "unicode/utf8.first", "unicode/utf8.acceptRanges", "internal/bytealg.MaxLen"], apart := false, laid := [("rosetta/digest.firstState", laid_rosetta_digest_firstState), ("rosetta/digest.roundConstants", laid_rosetta_digest_roundConstants), ("unicode/utf8.acceptRanges", laid_unicode_utf8_acceptRanges), ("unicode/utf8.first", laid_unicode_utf8_first)] }
def DigestZeroSaid : Prop := digestZeroRow.holds Tryd.pinned (OpenSpec.ofChange digestZeroSpec)

/-- ITS FALSE NEIGHBOUR: 'it returns false'. Refute it at one input. -/
def digestZeroWrong : ChangeSpec := { name := "digestZero", fn := fun _ => fun
  | [d] => { results := [.lit (.bool false)], args := [d] }
  | _ => none }
def DigestZeroWrongFalsely : Prop := digestZeroRow.holds Tryd.pinned (OpenSpec.ofChange digestZeroWrong)

/- THE SECOND FORM. 'bulk': how many values and letters a reading holds, each counted each time it is reached (what is shared counts as often as it is met; a slice's spare places count too). A statement '..UptoSaid' is the law's where the arguments, and the package variables that the reading takes, are together of bulk at most 1048576: NARROWER than '..Said'. Prove '..Said' where nothing that the law and all that it calls make is longer than what came in: it says more and counts as full. Else prove '..UptoSaid'. A law counts once. -/
mutual
def uptoBulk {H : Type} : DataW H → Nat
  | .lit (.string bytes) => bytes.length + 1
  | .lit _ => 1
  | .nil => 1
  | .ptr d => uptoBulk d + 1
  | .slice elems spare => uptoBulkAll elems + uptoBulkAll spare + 1
  | .agg parts => uptoBulkAll parts + 1
  | .iface _ d => uptoBulk d + 1
  | .map entries => uptoBulkEntries entries + 1
  | .held _ => 1
def uptoBulkAll {H : Type} : List (DataW H) → Nat
  | [] => 0
  | d :: r => uptoBulk d + uptoBulkAll r
def uptoBulkEntries {H : Type} : List (Lit × DataW H) → Nat
  | [] => 0
  | x :: r => uptoBulkEntry x + uptoBulkEntries r
def uptoBulkEntry {H : Type} : Lit × DataW H → Nat
  | (.string bytes, d) => bytes.length + uptoBulk d + 1
  | (_, d) => uptoBulk d + 1
 end
def uptoSmall : (H : Type) → List (DataW H) → Bool := fun _ ds => decide (uptoBulkAll ds ≤ 1048576)
def OpenSpec.upto (s : _root_.Go.ChangeSpec) : _root_.Go.OpenSpec := { _root_.Go.OpenSpec.ofChange s with cond := some uptoSmall }

/-- 'rosettalaw09.DigestSums', WHERE WHAT IT READS IS OF BULK AT MOST 1048576: true; the input reads as it did. -/
def digestSumsUptoRow : OpenClaim := { program := "ytnngadbmfdfmfaadoor", sum := "4632a91a4adb4f025d8e5051a1207d00b767106505c2f8ddb6dfe37f2b0ae276", func := "rosetta/rosettalaw09.DigestSums", spec := "digestSums", named := ["rosetta/digest.firstState", "rosetta/digest.roundConstants"], apart := false, laid := [("rosetta/digest.firstState", laid_rosetta_digest_firstState), ("rosetta/digest.roundConstants", laid_rosetta_digest_roundConstants)], narrowed := true }
def DigestSumsUptoSaid : Prop := digestSumsUptoRow.holds Tryd.pinned (OpenSpec.upto digestSumsSpec)

/-- 'rosettalaw09.DigestEdges', WHERE WHAT IT READS IS OF BULK AT MOST 1048576: true; the input reads as it did. -/
def digestEdgesUptoRow : OpenClaim := { program := "ytnngadbmfdfmfaadoor", sum := "4632a91a4adb4f025d8e5051a1207d00b767106505c2f8ddb6dfe37f2b0ae276", func := "rosetta/rosettalaw09.DigestEdges", spec := "digestEdges", named := ["rosetta/digest.firstState", "rosetta/digest.roundConstants"], apart := false, laid := [("rosetta/digest.firstState", laid_rosetta_digest_firstState), ("rosetta/digest.roundConstants", laid_rosetta_digest_roundConstants)], narrowed := true }
def DigestEdgesUptoSaid : Prop := digestEdgesUptoRow.holds Tryd.pinned (OpenSpec.upto digestEdgesSpec)

/-- 'rosettalaw09.DigestParts', WHERE WHAT IT READS IS OF BULK AT MOST 1048576: true; the input reads as it did. -/
def digestPartsUptoRow : OpenClaim := { program := "ytnngadbmfdfmfaadoor", sum := "4632a91a4adb4f025d8e5051a1207d00b767106505c2f8ddb6dfe37f2b0ae276", func := "rosetta/rosettalaw09.DigestParts", spec := "digestParts", inPlace := ["internal/abi.NoEscape", "internal/bytealg.MakeNoZero"], named := ["rosetta/digest.firstState", "rosetta/digest.roundConstants"], apart := false, laid := [("rosetta/digest.firstState", laid_rosetta_digest_firstState), ("rosetta/digest.roundConstants", laid_rosetta_digest_roundConstants)], narrowed := true }
def DigestPartsUptoSaid : Prop := digestPartsUptoRow.holds Tryd.pinned (OpenSpec.upto digestPartsSpec)

/-- 'rosettalaw09.DigestWrites', WHERE WHAT IT READS IS OF BULK AT MOST 1048576: true; the input reads as it did. -/
def digestWritesUptoRow : OpenClaim := { program := "ytnngadbmfdfmfaadoor", sum := "4632a91a4adb4f025d8e5051a1207d00b767106505c2f8ddb6dfe37f2b0ae276", func := "rosetta/rosettalaw09.DigestWrites", spec := "digestWrites", inPlace := ["internal/abi.NoEscape", "internal/bytealg.MakeNoZero"], named := ["rosetta/digest.firstState", "rosetta/digest.roundConstants"], apart := false, laid := [("rosetta/digest.firstState", laid_rosetta_digest_firstState), ("rosetta/digest.roundConstants", laid_rosetta_digest_roundConstants)], narrowed := true }
def DigestWritesUptoSaid : Prop := digestWritesUptoRow.holds Tryd.pinned (OpenSpec.upto digestWritesSpec)

/-- 'rosettalaw09.DigestBranches', WHERE WHAT IT READS IS OF BULK AT MOST 1048576: true; the input reads as it did. -/
def digestBranchesUptoRow : OpenClaim := { program := "ytnngadbmfdfmfaadoor", sum := "4632a91a4adb4f025d8e5051a1207d00b767106505c2f8ddb6dfe37f2b0ae276", func := "rosetta/rosettalaw09.DigestBranches", spec := "digestBranches", named := ["rosetta/digest.firstState", "rosetta/digest.roundConstants"], apart := false, laid := [("rosetta/digest.firstState", laid_rosetta_digest_firstState), ("rosetta/digest.roundConstants", laid_rosetta_digest_roundConstants)], narrowed := true }
def DigestBranchesUptoSaid : Prop := digestBranchesUptoRow.holds Tryd.pinned (OpenSpec.upto digestBranchesSpec)

/-- 'rosettalaw09.DigestZero', WHERE WHAT IT READS IS OF BULK AT MOST 1048576: true; the input reads as it did. -/
def digestZeroUptoRow : OpenClaim := { program := "ytnngadbmfdfmfaadoor", sum := "4632a91a4adb4f025d8e5051a1207d00b767106505c2f8ddb6dfe37f2b0ae276", func := "rosetta/rosettalaw09.DigestZero", spec := "digestZero", inPlace := ["internal/bytealg.IndexByteString", "internal/bytealg.IndexString"], named := ["rosetta/digest.firstState", "rosetta/digest.roundConstants", "unicode/utf8.first", "unicode/utf8.acceptRanges", "internal/bytealg.MaxLen"], apart := false, laid := [("rosetta/digest.firstState", laid_rosetta_digest_firstState), ("rosetta/digest.roundConstants", laid_rosetta_digest_roundConstants), ("unicode/utf8.acceptRanges", laid_unicode_utf8_acceptRanges), ("unicode/utf8.first", laid_unicode_utf8_first)], narrowed := true }
def DigestZeroUptoSaid : Prop := digestZeroUptoRow.holds Tryd.pinned (OpenSpec.upto digestZeroSpec)

end Rows
end Go.Proofs.YtnngadbmfdfmfaaDoor
