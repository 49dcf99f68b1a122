/-
  NARROWER THAN 'FOR EVERY INPUT', by the rows' own cells (each row's printed sentence says how): ArmorHex: laid · ArmorUnhexes: laid · ArmorBase: laid · ArmorUnbases: laid · ArmorFolds: laid · ArmorLengths: laid · ArmorJoins: laid.
  DERIVED. THE GIVEN ROWS OF THIS SEAT. 7 by the template 'for every input the law returns true; each argument reads behind the call as it read before'; 0 by the template 'total and deterministic' (their statements: YtaapmndfefjdcaaDoorTotals.lean).
  GIVEN WITH THE SEED: the statements are not yours to turn. If you find one false, say at which input.
  Laid BY PROGRAM, IN A SANDBOX (cutbox-rows.mjs): the forced cells as the released guide's own fill.sh prints them over the translation a7cb78cee714e6ea… (all of the seat's roots in one cut). By AI agents, Wed Nov 11 2026. No macro, syntax, notation, axiom, sorry.
-/
import Derived.Test.YtaapmndfefjdcaaDoorChecked
import GoSem.PinnedTables
import GoSem.Claim
import GoSem.ClaimJoined
import GoSem.ClaimMapViews
import Derived.JoinedTies
import Derived.KernelRfl
namespace Go.Proofs.YtaapmndfefjdcaaDoor
/- THE CELL 'sum', in the pinned program and in every row, IS THE sha256 OF THE DUMP (.gsa) THAT YtaapmndfefjdcaaDoorProg.lean LOADS. Nothing in Lean hashes anything: it is a label: what it is worth is what the hold of that sum in a sandbox is worth. -/
noncomputable def Tryd.pinned : Pinned := { name := "ytaapmndfefjdcaadoor", sum := "a7cb78cee714e6ea385dbe72f069550b1cbb7bd45824cfb09aae79a74a14b2f4", checked := Tryd.checked }
namespace Rows
def none {H : Type} : Left H := { results := [], args := [] }

/- WHAT THE LISTED PACKAGE-LEVEL VARIABLES READ AS WHEN THE CALL BEGINS. Each datum BY PROGRAM (the guide's laid-datum.mjs) off the statement by which the dump's own 'gosem.cut.vars' lays the variable. In a bare row this is a premise. The card (YtaapmndfefjdcaaDoorCards.lean) ties it to the program's text. -/
def laid_unicode_utf8_acceptRanges {H : Type} : DataW H := .agg [.agg [.lit (.int .u8 128), .lit (.int .u8 191)], .agg [.lit (.int .u8 160), .lit (.int .u8 191)], .agg [.lit (.int .u8 128), .lit (.int .u8 159)], .agg [.lit (.int .u8 144), .lit (.int .u8 191)], .agg [.lit (.int .u8 128), .lit (.int .u8 143)], .agg [.lit (.int .u8 0), .lit (.int .u8 0)], .agg [.lit (.int .u8 0), .lit (.int .u8 0)], .agg [.lit (.int .u8 0), .lit (.int .u8 0)], .agg [.lit (.int .u8 0), .lit (.int .u8 0)], .agg [.lit (.int .u8 0), .lit (.int .u8 0)], .agg [.lit (.int .u8 0), .lit (.int .u8 0)], .agg [.lit (.int .u8 0), .lit (.int .u8 0)], .agg [.lit (.int .u8 0), .lit (.int .u8 0)], .agg [.lit (.int .u8 0), .lit (.int .u8 0)], .agg [.lit (.int .u8 0), .lit (.int .u8 0)], .agg [.lit (.int .u8 0), .lit (.int .u8 0)]]
/-- One of Go's own tables, pinned by name: the form's constant. -/
def laid_unicode_utf8_first : DataW Unit := Go.Pinned.utf8First

/-- 'rosettalaw08.ArmorHex': WHATEVER THE INPUT: true; the input reads as it did. -/
def armorHexSpec : ChangeSpec := { name := "armorHex", fn := fun _ => fun
  | [d] => { results := [.lit (.bool true)], args := [d] }
  | _ => none }
def armorHexRow : OpenClaim := { program := "ytaapmndfefjdcaadoor", sum := "a7cb78cee714e6ea385dbe72f069550b1cbb7bd45824cfb09aae79a74a14b2f4", func := "rosetta/rosettalaw08.ArmorHex", spec := "armorHex", inPlace := ["internal/bytealg.IndexByteString", "internal/bytealg.IndexString"], named := ["unicode/utf8.first", "unicode/utf8.acceptRanges", "internal/bytealg.MaxLen"], apart := false, laid := [("unicode/utf8.acceptRanges", laid_unicode_utf8_acceptRanges), ("unicode/utf8.first", laid_unicode_utf8_first)] }
def ArmorHexSaid : Prop := armorHexRow.holds Tryd.pinned (OpenSpec.ofChange armorHexSpec)

/-- ITS FALSE NEIGHBOUR: 'it returns false'. Refute it at one input. -/
def armorHexWrong : ChangeSpec := { name := "armorHex", fn := fun _ => fun
  | [d] => { results := [.lit (.bool false)], args := [d] }
  | _ => none }
def ArmorHexWrongFalsely : Prop := armorHexRow.holds Tryd.pinned (OpenSpec.ofChange armorHexWrong)

/-- 'rosettalaw08.ArmorUnhexes': WHATEVER THE INPUT: true; the input reads as it did. -/
def armorUnhexesSpec : ChangeSpec := { name := "armorUnhexes", fn := fun _ => fun
  | [d] => { results := [.lit (.bool true)], args := [d] }
  | _ => none }
def armorUnhexesRow : OpenClaim := { program := "ytaapmndfefjdcaadoor", sum := "a7cb78cee714e6ea385dbe72f069550b1cbb7bd45824cfb09aae79a74a14b2f4", func := "rosetta/rosettalaw08.ArmorUnhexes", spec := "armorUnhexes", inPlace := ["internal/bytealg.IndexByteString", "internal/bytealg.IndexString"], named := ["unicode/utf8.first", "unicode/utf8.acceptRanges", "internal/bytealg.MaxLen"], apart := false, laid := [("unicode/utf8.acceptRanges", laid_unicode_utf8_acceptRanges), ("unicode/utf8.first", laid_unicode_utf8_first)] }
def ArmorUnhexesSaid : Prop := armorUnhexesRow.holds Tryd.pinned (OpenSpec.ofChange armorUnhexesSpec)

/-- ITS FALSE NEIGHBOUR: 'it returns false'. Refute it at one input. -/
def armorUnhexesWrong : ChangeSpec := { name := "armorUnhexes", fn := fun _ => fun
  | [d] => { results := [.lit (.bool false)], args := [d] }
  | _ => none }
def ArmorUnhexesWrongFalsely : Prop := armorUnhexesRow.holds Tryd.pinned (OpenSpec.ofChange armorUnhexesWrong)

/-- 'rosettalaw08.ArmorBase': WHATEVER THE INPUT: true; the input reads as it did. -/
def armorBaseSpec : ChangeSpec := { name := "armorBase", fn := fun _ => fun
  | [d] => { results := [.lit (.bool true)], args := [d] }
  | _ => none }
def armorBaseRow : OpenClaim := { program := "ytaapmndfefjdcaadoor", sum := "a7cb78cee714e6ea385dbe72f069550b1cbb7bd45824cfb09aae79a74a14b2f4", func := "rosetta/rosettalaw08.ArmorBase", spec := "armorBase", inPlace := ["internal/bytealg.IndexByteString", "internal/bytealg.IndexString"], named := ["unicode/utf8.first", "unicode/utf8.acceptRanges", "internal/bytealg.MaxLen"], apart := false, laid := [("unicode/utf8.acceptRanges", laid_unicode_utf8_acceptRanges), ("unicode/utf8.first", laid_unicode_utf8_first)] }
def ArmorBaseSaid : Prop := armorBaseRow.holds Tryd.pinned (OpenSpec.ofChange armorBaseSpec)

/-- ITS FALSE NEIGHBOUR: 'it returns false'. Refute it at one input. -/
def armorBaseWrong : ChangeSpec := { name := "armorBase", fn := fun _ => fun
  | [d] => { results := [.lit (.bool false)], args := [d] }
  | _ => none }
def ArmorBaseWrongFalsely : Prop := armorBaseRow.holds Tryd.pinned (OpenSpec.ofChange armorBaseWrong)

/-- 'rosettalaw08.ArmorUnbases': WHATEVER THE INPUT: true; the input reads as it did. -/
def armorUnbasesSpec : ChangeSpec := { name := "armorUnbases", fn := fun _ => fun
  | [d] => { results := [.lit (.bool true)], args := [d] }
  | _ => none }
def armorUnbasesRow : OpenClaim := { program := "ytaapmndfefjdcaadoor", sum := "a7cb78cee714e6ea385dbe72f069550b1cbb7bd45824cfb09aae79a74a14b2f4", func := "rosetta/rosettalaw08.ArmorUnbases", spec := "armorUnbases", inPlace := ["internal/bytealg.IndexByteString", "internal/bytealg.IndexString"], named := ["unicode/utf8.first", "unicode/utf8.acceptRanges", "internal/bytealg.MaxLen"], apart := false, laid := [("unicode/utf8.acceptRanges", laid_unicode_utf8_acceptRanges), ("unicode/utf8.first", laid_unicode_utf8_first)] }
def ArmorUnbasesSaid : Prop := armorUnbasesRow.holds Tryd.pinned (OpenSpec.ofChange armorUnbasesSpec)

/-- ITS FALSE NEIGHBOUR: 'it returns false'. Refute it at one input. -/
def armorUnbasesWrong : ChangeSpec := { name := "armorUnbases", fn := fun _ => fun
  | [d] => { results := [.lit (.bool false)], args := [d] }
  | _ => none }
def ArmorUnbasesWrongFalsely : Prop := armorUnbasesRow.holds Tryd.pinned (OpenSpec.ofChange armorUnbasesWrong)

/-- 'rosettalaw08.ArmorFolds': WHATEVER THE INPUT: true; the input reads as it did. -/
def armorFoldsSpec : ChangeSpec := { name := "armorFolds", fn := fun _ => fun
  | [d1, d2] => { results := [.lit (.bool true)], args := [d1, d2] }
  | _ => none }
def armorFoldsRow : OpenClaim := { program := "ytaapmndfefjdcaadoor", sum := "a7cb78cee714e6ea385dbe72f069550b1cbb7bd45824cfb09aae79a74a14b2f4", func := "rosetta/rosettalaw08.ArmorFolds", spec := "armorFolds", inPlace := ["internal/bytealg.IndexByteString", "internal/bytealg.IndexString", "internal/abi.NoEscape", "internal/bytealg.MakeNoZero"], named := ["unicode/utf8.first", "unicode/utf8.acceptRanges", "internal/bytealg.MaxLen"], apart := false, laid := [("unicode/utf8.acceptRanges", laid_unicode_utf8_acceptRanges), ("unicode/utf8.first", laid_unicode_utf8_first)] }
def ArmorFoldsSaid : Prop := armorFoldsRow.holds Tryd.pinned (OpenSpec.ofChange armorFoldsSpec)

/-- ITS FALSE NEIGHBOUR: 'it returns false'. Refute it at one input. -/
def armorFoldsWrong : ChangeSpec := { name := "armorFolds", fn := fun _ => fun
  | [d1, d2] => { results := [.lit (.bool false)], args := [d1, d2] }
  | _ => none }
def ArmorFoldsWrongFalsely : Prop := armorFoldsRow.holds Tryd.pinned (OpenSpec.ofChange armorFoldsWrong)

/-- 'rosettalaw08.ArmorLengths': WHATEVER THE INPUT: true; the input reads as it did. -/
def armorLengthsSpec : ChangeSpec := { name := "armorLengths", fn := fun _ => fun
  | [d] => { results := [.lit (.bool true)], args := [d] }
  | _ => none }
def armorLengthsRow : OpenClaim := { program := "ytaapmndfefjdcaadoor", sum := "a7cb78cee714e6ea385dbe72f069550b1cbb7bd45824cfb09aae79a74a14b2f4", func := "rosetta/rosettalaw08.ArmorLengths", spec := "armorLengths", inPlace := ["internal/bytealg.IndexByteString", "internal/bytealg.IndexString"], named := ["unicode/utf8.first", "unicode/utf8.acceptRanges", "internal/bytealg.MaxLen"], apart := false, laid := [("unicode/utf8.acceptRanges", laid_unicode_utf8_acceptRanges), ("unicode/utf8.first", laid_unicode_utf8_first)] }
def ArmorLengthsSaid : Prop := armorLengthsRow.holds Tryd.pinned (OpenSpec.ofChange armorLengthsSpec)

/-- ITS FALSE NEIGHBOUR: 'it returns false'. Refute it at one input. -/
def armorLengthsWrong : ChangeSpec := { name := "armorLengths", fn := fun _ => fun
  | [d] => { results := [.lit (.bool false)], args := [d] }
  | _ => none }
def ArmorLengthsWrongFalsely : Prop := armorLengthsRow.holds Tryd.pinned (OpenSpec.ofChange armorLengthsWrong)

/-- 'rosettalaw08.ArmorJoins': WHATEVER THE INPUT: true; the input reads as it did. -/
def armorJoinsSpec : ChangeSpec := { name := "armorJoins", fn := fun _ => fun
  | [d1, d2] => { results := [.lit (.bool true)], args := [d1, d2] }
  | _ => none }
def armorJoinsRow : OpenClaim := { program := "ytaapmndfefjdcaadoor", sum := "a7cb78cee714e6ea385dbe72f069550b1cbb7bd45824cfb09aae79a74a14b2f4", func := "rosetta/rosettalaw08.ArmorJoins", spec := "armorJoins", inPlace := ["internal/bytealg.IndexByteString", "internal/bytealg.IndexString", "internal/abi.NoEscape", "internal/bytealg.MakeNoZero"], named := ["unicode/utf8.first", "unicode/utf8.acceptRanges", "internal/bytealg.MaxLen"], apart := false, laid := [("unicode/utf8.acceptRanges", laid_unicode_utf8_acceptRanges), ("unicode/utf8.first", laid_unicode_utf8_first)] }
def ArmorJoinsSaid : Prop := armorJoinsRow.holds Tryd.pinned (OpenSpec.ofChange armorJoinsSpec)

/-- ITS FALSE NEIGHBOUR: 'it returns false'. Refute it at one input. -/
def armorJoinsWrong : ChangeSpec := { name := "armorJoins", fn := fun _ => fun
  | [d1, d2] => { results := [.lit (.bool false)], args := [d1, d2] }
  | _ => none }
def ArmorJoinsWrongFalsely : Prop := armorJoinsRow.holds Tryd.pinned (OpenSpec.ofChange armorJoinsWrong)

/- THE SECOND FORM. 'bulk': how many values and letters a reading holds, each counted each time it is reached (what is shared counts as often as it is met; a slice's spare places count too). A statement '..UptoSaid' is the law's where the arguments, and the package variables that the reading takes, are together of bulk at most 1048576: NARROWER than '..Said'. Prove '..Said' where nothing that the law and all that it calls make is longer than what came in: it says more and counts as full. Else prove '..UptoSaid'. A law counts once. -/
mutual
def uptoBulk {H : Type} : DataW H → Nat
  | .lit (.string bytes) => bytes.length + 1
  | .lit _ => 1
  | .nil => 1
  | .ptr d => uptoBulk d + 1
  | .slice elems spare => uptoBulkAll elems + uptoBulkAll spare + 1
  | .agg parts => uptoBulkAll parts + 1
  | .iface _ d => uptoBulk d + 1
  | .map entries => uptoBulkEntries entries + 1
  | .held _ => 1
def uptoBulkAll {H : Type} : List (DataW H) → Nat
  | [] => 0
  | d :: r => uptoBulk d + uptoBulkAll r
def uptoBulkEntries {H : Type} : List (Lit × DataW H) → Nat
  | [] => 0
  | x :: r => uptoBulkEntry x + uptoBulkEntries r
def uptoBulkEntry {H : Type} : Lit × DataW H → Nat
  | (.string bytes, d) => bytes.length + uptoBulk d + 1
  | (_, d) => uptoBulk d + 1
 end
def uptoSmall : (H : Type) → List (DataW H) → Bool := fun _ ds => decide (uptoBulkAll ds ≤ 1048576)
def OpenSpec.upto (s : _root_.Go.ChangeSpec) : _root_.Go.OpenSpec := { _root_.Go.OpenSpec.ofChange s with cond := some uptoSmall }

/-- 'rosettalaw08.ArmorHex', WHERE WHAT IT READS IS OF BULK AT MOST 1048576: true; the input reads as it did. -/
def armorHexUptoRow : OpenClaim := { program := "ytaapmndfefjdcaadoor", sum := "a7cb78cee714e6ea385dbe72f069550b1cbb7bd45824cfb09aae79a74a14b2f4", func := "rosetta/rosettalaw08.ArmorHex", spec := "armorHex", inPlace := ["internal/bytealg.IndexByteString", "internal/bytealg.IndexString"], named := ["unicode/utf8.first", "unicode/utf8.acceptRanges", "internal/bytealg.MaxLen"], apart := false, laid := [("unicode/utf8.acceptRanges", laid_unicode_utf8_acceptRanges), ("unicode/utf8.first", laid_unicode_utf8_first)], narrowed := true }
def ArmorHexUptoSaid : Prop := armorHexUptoRow.holds Tryd.pinned (OpenSpec.upto armorHexSpec)

/-- 'rosettalaw08.ArmorUnhexes', WHERE WHAT IT READS IS OF BULK AT MOST 1048576: true; the input reads as it did. -/
def armorUnhexesUptoRow : OpenClaim := { program := "ytaapmndfefjdcaadoor", sum := "a7cb78cee714e6ea385dbe72f069550b1cbb7bd45824cfb09aae79a74a14b2f4", func := "rosetta/rosettalaw08.ArmorUnhexes", spec := "armorUnhexes", inPlace := ["internal/bytealg.IndexByteString", "internal/bytealg.IndexString"], named := ["unicode/utf8.first", "unicode/utf8.acceptRanges", "internal/bytealg.MaxLen"], apart := false, laid := [("unicode/utf8.acceptRanges", laid_unicode_utf8_acceptRanges), ("unicode/utf8.first", laid_unicode_utf8_first)], narrowed := true }
def ArmorUnhexesUptoSaid : Prop := armorUnhexesUptoRow.holds Tryd.pinned (OpenSpec.upto armorUnhexesSpec)

/-- 'rosettalaw08.ArmorBase', WHERE WHAT IT READS IS OF BULK AT MOST 1048576: true; the input reads as it did. -/
def armorBaseUptoRow : OpenClaim := { program := "ytaapmndfefjdcaadoor", sum := "a7cb78cee714e6ea385dbe72f069550b1cbb7bd45824cfb09aae79a74a14b2f4", func := "rosetta/rosettalaw08.ArmorBase", spec := "armorBase", inPlace := ["internal/bytealg.IndexByteString", "internal/bytealg.IndexString"], named := ["unicode/utf8.first", "unicode/utf8.acceptRanges", "internal/bytealg.MaxLen"], apart := false, laid := [("unicode/utf8.acceptRanges", laid_unicode_utf8_acceptRanges), ("unicode/utf8.first", laid_unicode_utf8_first)], narrowed := true }
def ArmorBaseUptoSaid : Prop := armorBaseUptoRow.holds Tryd.pinned (OpenSpec.upto armorBaseSpec)

/-- 'rosettalaw08.ArmorUnbases', WHERE WHAT IT READS IS OF BULK AT MOST 1048576: true; the input reads as it did. -/
def armorUnbasesUptoRow : OpenClaim := { program := "ytaapmndfefjdcaadoor", sum := "a7cb78cee714e6ea385dbe72f069550b1cbb7bd45824cfb09aae79a74a14b2f4", func := "rosetta/rosettalaw08.ArmorUnbases", spec := "armorUnbases", inPlace := ["internal/bytealg.IndexByteString", "internal/bytealg.IndexString"], named := ["unicode/utf8.first", "unicode/utf8.acceptRanges", "internal/bytealg.MaxLen"], apart := false, laid := [("unicode/utf8.acceptRanges", laid_unicode_utf8_acceptRanges), ("unicode/utf8.first", laid_unicode_utf8_first)], narrowed := true }
def ArmorUnbasesUptoSaid : Prop := armorUnbasesUptoRow.holds Tryd.pinned (OpenSpec.upto armorUnbasesSpec)

/-- 'rosettalaw08.ArmorFolds', WHERE WHAT IT READS IS OF BULK AT MOST 1048576: true; the input reads as it did. -/
def armorFoldsUptoRow : OpenClaim := { program := "ytaapmndfefjdcaadoor", sum := "a7cb78cee714e6ea385dbe72f069550b1cbb7bd45824cfb09aae79a74a14b2f4", func := "rosetta/rosettalaw08.ArmorFolds", spec := "armorFolds", inPlace := ["internal/bytealg.IndexByteString", "internal/bytealg.IndexString", "internal/abi.NoEscape", "internal/bytealg.MakeNoZero"], named := ["unicode/utf8.first", "unicode/utf8.acceptRanges", "internal/bytealg.MaxLen"], apart := false, laid := [("unicode/utf8.acceptRanges", laid_unicode_utf8_acceptRanges), ("unicode/utf8.first", laid_unicode_utf8_first)], narrowed := true }
def ArmorFoldsUptoSaid : Prop := armorFoldsUptoRow.holds Tryd.pinned (OpenSpec.upto armorFoldsSpec)

/-- 'rosettalaw08.ArmorLengths', WHERE WHAT IT READS IS OF BULK AT MOST 1048576: true; the input reads as it did. -/
def armorLengthsUptoRow : OpenClaim := { program := "ytaapmndfefjdcaadoor", sum := "a7cb78cee714e6ea385dbe72f069550b1cbb7bd45824cfb09aae79a74a14b2f4", func := "rosetta/rosettalaw08.ArmorLengths", spec := "armorLengths", inPlace := ["internal/bytealg.IndexByteString", "internal/bytealg.IndexString"], named := ["unicode/utf8.first", "unicode/utf8.acceptRanges", "internal/bytealg.MaxLen"], apart := false, laid := [("unicode/utf8.acceptRanges", laid_unicode_utf8_acceptRanges), ("unicode/utf8.first", laid_unicode_utf8_first)], narrowed := true }
def ArmorLengthsUptoSaid : Prop := armorLengthsUptoRow.holds Tryd.pinned (OpenSpec.upto armorLengthsSpec)

/-- 'rosettalaw08.ArmorJoins', WHERE WHAT IT READS IS OF BULK AT MOST 1048576: true; the input reads as it did. -/
def armorJoinsUptoRow : OpenClaim := { program := "ytaapmndfefjdcaadoor", sum := "a7cb78cee714e6ea385dbe72f069550b1cbb7bd45824cfb09aae79a74a14b2f4", func := "rosetta/rosettalaw08.ArmorJoins", spec := "armorJoins", inPlace := ["internal/bytealg.IndexByteString", "internal/bytealg.IndexString", "internal/abi.NoEscape", "internal/bytealg.MakeNoZero"], named := ["unicode/utf8.first", "unicode/utf8.acceptRanges", "internal/bytealg.MaxLen"], apart := false, laid := [("unicode/utf8.acceptRanges", laid_unicode_utf8_acceptRanges), ("unicode/utf8.first", laid_unicode_utf8_first)], narrowed := true }
def ArmorJoinsUptoSaid : Prop := armorJoinsUptoRow.holds Tryd.pinned (OpenSpec.upto armorJoinsSpec)

end Rows
end Go.Proofs.YtaapmndfefjdcaaDoor
