/-
  NARROWER THAN 'FOR EVERY INPUT', by the rows' own cells (each row's printed sentence says how): CodepointDecodes: laid · CodepointEncodes: laid · CodepointFeeds: laid · CodepointTrips: laid · CodepointOrders: laid · CodepointJoins: laid · CodepointForks: laid · PositionFinds: laid · PositionReturns: laid · PositionBack: laid · PositionJoins: laid · PositionIndents: laid.
  DERIVED. THE GIVEN ROWS OF THIS SEAT. 12 by the template 'for every input the law returns true; each argument reads behind the call as it read before'; 0 by the template 'total and deterministic' (their statements: YtmoljdgalonlpaaDoorTotals.lean).
  GIVEN WITH THE SEED: the statements are not yours to turn. If you find one false, say at which input.
  Laid BY PROGRAM, IN A SANDBOX (cutbox-rows.mjs): the forced cells as the released guide's own fill.sh prints them over the translation 8005b8afb780fb96… (all of the seat's roots in one cut). By AI agents, Wed Nov 11 2026. No macro, syntax, notation, axiom, sorry.
-/
import Derived.Test.YtmoljdgalonlpaaDoorChecked
import GoSem.PinnedTables
import GoSem.Claim
import GoSem.ClaimJoined
import GoSem.ClaimMapViews
import Derived.JoinedTies
import Derived.KernelRfl
namespace Go.Proofs.YtmoljdgalonlpaaDoor
/- THE CELL 'sum', in the pinned program and in every row, IS THE sha256 OF THE DUMP (.gsa) THAT YtmoljdgalonlpaaDoorProg.lean LOADS. Nothing in Lean hashes anything: it is a label: what it is worth is what the hold of that sum in a sandbox is worth. -/
noncomputable def Tryd.pinned : Pinned := { name := "ytmoljdgalonlpaadoor", sum := "8005b8afb780fb9654f7bd9a20584bd5c5b9f2812859160651c6f9396fa287a2", checked := Tryd.checked }
namespace Rows
def none {H : Type} : Left H := { results := [], args := [] }

/- WHAT THE LISTED PACKAGE-LEVEL VARIABLES READ AS WHEN THE CALL BEGINS. Each datum BY PROGRAM (the guide's laid-datum.mjs) off the statement by which the dump's own 'gosem.cut.vars' lays the variable. In a bare row this is a premise. The card (YtmoljdgalonlpaaDoorCards.lean) ties it to the program's text. -/
def laid_unicode_utf8_acceptRanges {H : Type} : DataW H := .agg [.agg [.lit (.int .u8 128), .lit (.int .u8 191)], .agg [.lit (.int .u8 160), .lit (.int .u8 191)], .agg [.lit (.int .u8 128), .lit (.int .u8 159)], .agg [.lit (.int .u8 144), .lit (.int .u8 191)], .agg [.lit (.int .u8 128), .lit (.int .u8 143)], .agg [.lit (.int .u8 0), .lit (.int .u8 0)], .agg [.lit (.int .u8 0), .lit (.int .u8 0)], .agg [.lit (.int .u8 0), .lit (.int .u8 0)], .agg [.lit (.int .u8 0), .lit (.int .u8 0)], .agg [.lit (.int .u8 0), .lit (.int .u8 0)], .agg [.lit (.int .u8 0), .lit (.int .u8 0)], .agg [.lit (.int .u8 0), .lit (.int .u8 0)], .agg [.lit (.int .u8 0), .lit (.int .u8 0)], .agg [.lit (.int .u8 0), .lit (.int .u8 0)], .agg [.lit (.int .u8 0), .lit (.int .u8 0)], .agg [.lit (.int .u8 0), .lit (.int .u8 0)]]
/-- One of Go's own tables, pinned by name: the form's constant. -/
def laid_unicode_utf8_first : DataW Unit := Go.Pinned.utf8First

/-- 'rosettalaw01.CodepointDecodes': WHATEVER THE INPUT: true; the input reads as it did. -/
def codepointDecodesSpec : ChangeSpec := { name := "codepointDecodes", fn := fun _ => fun
  | [d] => { results := [.lit (.bool true)], args := [d] }
  | _ => none }
def codepointDecodesRow : OpenClaim := { program := "ytmoljdgalonlpaadoor", sum := "8005b8afb780fb9654f7bd9a20584bd5c5b9f2812859160651c6f9396fa287a2", func := "rosetta/rosettalaw01.CodepointDecodes", spec := "codepointDecodes", named := ["unicode/utf8.first", "unicode/utf8.acceptRanges"], apart := false, laid := [("unicode/utf8.acceptRanges", laid_unicode_utf8_acceptRanges), ("unicode/utf8.first", laid_unicode_utf8_first)] }
def CodepointDecodesSaid : Prop := codepointDecodesRow.holds Tryd.pinned (OpenSpec.ofChange codepointDecodesSpec)

/-- ITS FALSE NEIGHBOUR: 'it returns false'. Refute it at one input. -/
def codepointDecodesWrong : ChangeSpec := { name := "codepointDecodes", fn := fun _ => fun
  | [d] => { results := [.lit (.bool false)], args := [d] }
  | _ => none }
def CodepointDecodesWrongFalsely : Prop := codepointDecodesRow.holds Tryd.pinned (OpenSpec.ofChange codepointDecodesWrong)

/-- 'rosettalaw01.CodepointEncodes': WHATEVER THE INPUT: true; the input reads as it did. -/
def codepointEncodesSpec : ChangeSpec := { name := "codepointEncodes", fn := fun _ => fun
  | [d] => { results := [.lit (.bool true)], args := [d] }
  | _ => none }
def codepointEncodesRow : OpenClaim := { program := "ytmoljdgalonlpaadoor", sum := "8005b8afb780fb9654f7bd9a20584bd5c5b9f2812859160651c6f9396fa287a2", func := "rosetta/rosettalaw01.CodepointEncodes", spec := "codepointEncodes", inPlace := ["internal/abi.NoEscape"], named := ["unicode/utf8.first", "unicode/utf8.acceptRanges"], apart := false, laid := [("unicode/utf8.acceptRanges", laid_unicode_utf8_acceptRanges), ("unicode/utf8.first", laid_unicode_utf8_first)] }
def CodepointEncodesSaid : Prop := codepointEncodesRow.holds Tryd.pinned (OpenSpec.ofChange codepointEncodesSpec)

/-- ITS FALSE NEIGHBOUR: 'it returns false'. Refute it at one input. -/
def codepointEncodesWrong : ChangeSpec := { name := "codepointEncodes", fn := fun _ => fun
  | [d] => { results := [.lit (.bool false)], args := [d] }
  | _ => none }
def CodepointEncodesWrongFalsely : Prop := codepointEncodesRow.holds Tryd.pinned (OpenSpec.ofChange codepointEncodesWrong)

/-- 'rosettalaw01.CodepointFeeds': WHATEVER THE INPUT: true; the input reads as it did. -/
def codepointFeedsSpec : ChangeSpec := { name := "codepointFeeds", fn := fun _ => fun
  | [d] => { results := [.lit (.bool true)], args := [d] }
  | _ => none }
def codepointFeedsRow : OpenClaim := { program := "ytmoljdgalonlpaadoor", sum := "8005b8afb780fb9654f7bd9a20584bd5c5b9f2812859160651c6f9396fa287a2", func := "rosetta/rosettalaw01.CodepointFeeds", spec := "codepointFeeds", named := ["unicode/utf8.first", "unicode/utf8.acceptRanges"], apart := false, laid := [("unicode/utf8.acceptRanges", laid_unicode_utf8_acceptRanges), ("unicode/utf8.first", laid_unicode_utf8_first)] }
def CodepointFeedsSaid : Prop := codepointFeedsRow.holds Tryd.pinned (OpenSpec.ofChange codepointFeedsSpec)

/-- ITS FALSE NEIGHBOUR: 'it returns false'. Refute it at one input. -/
def codepointFeedsWrong : ChangeSpec := { name := "codepointFeeds", fn := fun _ => fun
  | [d] => { results := [.lit (.bool false)], args := [d] }
  | _ => none }
def CodepointFeedsWrongFalsely : Prop := codepointFeedsRow.holds Tryd.pinned (OpenSpec.ofChange codepointFeedsWrong)

/-- 'rosettalaw01.CodepointTrips': WHATEVER THE INPUT: true; the input reads as it did. -/
def codepointTripsSpec : ChangeSpec := { name := "codepointTrips", fn := fun _ => fun
  | [d1, d2] => { results := [.lit (.bool true)], args := [d1, d2] }
  | _ => none }
def codepointTripsRow : OpenClaim := { program := "ytmoljdgalonlpaadoor", sum := "8005b8afb780fb9654f7bd9a20584bd5c5b9f2812859160651c6f9396fa287a2", func := "rosetta/rosettalaw01.CodepointTrips", spec := "codepointTrips", inPlace := ["internal/abi.NoEscape"], named := ["unicode/utf8.first", "unicode/utf8.acceptRanges"], apart := false, laid := [("unicode/utf8.acceptRanges", laid_unicode_utf8_acceptRanges), ("unicode/utf8.first", laid_unicode_utf8_first)] }
def CodepointTripsSaid : Prop := codepointTripsRow.holds Tryd.pinned (OpenSpec.ofChange codepointTripsSpec)

/-- ITS FALSE NEIGHBOUR: 'it returns false'. Refute it at one input. -/
def codepointTripsWrong : ChangeSpec := { name := "codepointTrips", fn := fun _ => fun
  | [d1, d2] => { results := [.lit (.bool false)], args := [d1, d2] }
  | _ => none }
def CodepointTripsWrongFalsely : Prop := codepointTripsRow.holds Tryd.pinned (OpenSpec.ofChange codepointTripsWrong)

/-- 'rosettalaw01.CodepointOrders': WHATEVER THE INPUT: true; the input reads as it did. -/
def codepointOrdersSpec : ChangeSpec := { name := "codepointOrders", fn := fun _ => fun
  | [d1, d2] => { results := [.lit (.bool true)], args := [d1, d2] }
  | _ => none }
def codepointOrdersRow : OpenClaim := { program := "ytmoljdgalonlpaadoor", sum := "8005b8afb780fb9654f7bd9a20584bd5c5b9f2812859160651c6f9396fa287a2", func := "rosetta/rosettalaw01.CodepointOrders", spec := "codepointOrders", named := ["unicode/utf8.first", "unicode/utf8.acceptRanges"], apart := false, laid := [("unicode/utf8.acceptRanges", laid_unicode_utf8_acceptRanges), ("unicode/utf8.first", laid_unicode_utf8_first)] }
def CodepointOrdersSaid : Prop := codepointOrdersRow.holds Tryd.pinned (OpenSpec.ofChange codepointOrdersSpec)

/-- ITS FALSE NEIGHBOUR: 'it returns false'. Refute it at one input. -/
def codepointOrdersWrong : ChangeSpec := { name := "codepointOrders", fn := fun _ => fun
  | [d1, d2] => { results := [.lit (.bool false)], args := [d1, d2] }
  | _ => none }
def CodepointOrdersWrongFalsely : Prop := codepointOrdersRow.holds Tryd.pinned (OpenSpec.ofChange codepointOrdersWrong)

/-- 'rosettalaw01.CodepointJoins': WHATEVER THE INPUT: true; the input reads as it did. -/
def codepointJoinsSpec : ChangeSpec := { name := "codepointJoins", fn := fun _ => fun
  | [d1, d2] => { results := [.lit (.bool true)], args := [d1, d2] }
  | _ => none }
def codepointJoinsRow : OpenClaim := { program := "ytmoljdgalonlpaadoor", sum := "8005b8afb780fb9654f7bd9a20584bd5c5b9f2812859160651c6f9396fa287a2", func := "rosetta/rosettalaw01.CodepointJoins", spec := "codepointJoins", named := ["unicode/utf8.first", "unicode/utf8.acceptRanges"], apart := false, laid := [("unicode/utf8.acceptRanges", laid_unicode_utf8_acceptRanges), ("unicode/utf8.first", laid_unicode_utf8_first)] }
def CodepointJoinsSaid : Prop := codepointJoinsRow.holds Tryd.pinned (OpenSpec.ofChange codepointJoinsSpec)

/-- ITS FALSE NEIGHBOUR: 'it returns false'. Refute it at one input. -/
def codepointJoinsWrong : ChangeSpec := { name := "codepointJoins", fn := fun _ => fun
  | [d1, d2] => { results := [.lit (.bool false)], args := [d1, d2] }
  | _ => none }
def CodepointJoinsWrongFalsely : Prop := codepointJoinsRow.holds Tryd.pinned (OpenSpec.ofChange codepointJoinsWrong)

/-- 'rosettalaw01.CodepointForks': WHATEVER THE INPUT: true; the input reads as it did. -/
def codepointForksSpec : ChangeSpec := { name := "codepointForks", fn := fun _ => fun
  | [d1, d2, d3] => { results := [.lit (.bool true)], args := [d1, d2, d3] }
  | _ => none }
def codepointForksRow : OpenClaim := { program := "ytmoljdgalonlpaadoor", sum := "8005b8afb780fb9654f7bd9a20584bd5c5b9f2812859160651c6f9396fa287a2", func := "rosetta/rosettalaw01.CodepointForks", spec := "codepointForks", named := ["unicode/utf8.first", "unicode/utf8.acceptRanges"], apart := false, laid := [("unicode/utf8.acceptRanges", laid_unicode_utf8_acceptRanges), ("unicode/utf8.first", laid_unicode_utf8_first)] }
def CodepointForksSaid : Prop := codepointForksRow.holds Tryd.pinned (OpenSpec.ofChange codepointForksSpec)

/-- ITS FALSE NEIGHBOUR: 'it returns false'. Refute it at one input. -/
def codepointForksWrong : ChangeSpec := { name := "codepointForks", fn := fun _ => fun
  | [d1, d2, d3] => { results := [.lit (.bool false)], args := [d1, d2, d3] }
  | _ => none }
def CodepointForksWrongFalsely : Prop := codepointForksRow.holds Tryd.pinned (OpenSpec.ofChange codepointForksWrong)

/-- 'rosettalaw02.PositionFinds': WHATEVER THE INPUT: true; the input reads as it did. -/
def positionFindsSpec : ChangeSpec := { name := "positionFinds", fn := fun _ => fun
  | [d1, d2] => { results := [.lit (.bool true)], args := [d1, d2] }
  | _ => none }
def positionFindsRow : OpenClaim := { program := "ytmoljdgalonlpaadoor", sum := "8005b8afb780fb9654f7bd9a20584bd5c5b9f2812859160651c6f9396fa287a2", func := "rosetta/rosettalaw02.PositionFinds", spec := "positionFinds", inPlace := ["internal/bytealg.CountString", "internal/bytealg.IndexByteString", "internal/bytealg.IndexString"], unfollowed := true, recurses := true, named := ["internal/bytealg.MaxLen", "unicode/utf8.first", "unicode/utf8.acceptRanges"], apart := false, laid := [("unicode/utf8.acceptRanges", laid_unicode_utf8_acceptRanges), ("unicode/utf8.first", laid_unicode_utf8_first)] }
def PositionFindsSaid : Prop := positionFindsRow.holds Tryd.pinned (OpenSpec.ofChange positionFindsSpec)

/-- ITS FALSE NEIGHBOUR: 'it returns false'. Refute it at one input. -/
def positionFindsWrong : ChangeSpec := { name := "positionFinds", fn := fun _ => fun
  | [d1, d2] => { results := [.lit (.bool false)], args := [d1, d2] }
  | _ => none }
def PositionFindsWrongFalsely : Prop := positionFindsRow.holds Tryd.pinned (OpenSpec.ofChange positionFindsWrong)

/-- 'rosettalaw02.PositionReturns': WHATEVER THE INPUT: true; the input reads as it did. -/
def positionReturnsSpec : ChangeSpec := { name := "positionReturns", fn := fun _ => fun
  | [d1, d2, d3] => { results := [.lit (.bool true)], args := [d1, d2, d3] }
  | _ => none }
def positionReturnsRow : OpenClaim := { program := "ytmoljdgalonlpaadoor", sum := "8005b8afb780fb9654f7bd9a20584bd5c5b9f2812859160651c6f9396fa287a2", func := "rosetta/rosettalaw02.PositionReturns", spec := "positionReturns", inPlace := ["internal/bytealg.CountString", "internal/bytealg.IndexByteString", "internal/bytealg.IndexString"], unfollowed := true, recurses := true, named := ["internal/bytealg.MaxLen", "unicode/utf8.first", "unicode/utf8.acceptRanges"], apart := false, laid := [("unicode/utf8.acceptRanges", laid_unicode_utf8_acceptRanges), ("unicode/utf8.first", laid_unicode_utf8_first)] }
def PositionReturnsSaid : Prop := positionReturnsRow.holds Tryd.pinned (OpenSpec.ofChange positionReturnsSpec)

/-- ITS FALSE NEIGHBOUR: 'it returns false'. Refute it at one input. -/
def positionReturnsWrong : ChangeSpec := { name := "positionReturns", fn := fun _ => fun
  | [d1, d2, d3] => { results := [.lit (.bool false)], args := [d1, d2, d3] }
  | _ => none }
def PositionReturnsWrongFalsely : Prop := positionReturnsRow.holds Tryd.pinned (OpenSpec.ofChange positionReturnsWrong)

/-- 'rosettalaw02.PositionBack': WHATEVER THE INPUT: true; the input reads as it did. -/
def positionBackSpec : ChangeSpec := { name := "positionBack", fn := fun _ => fun
  | [d] => { results := [.lit (.bool true)], args := [d] }
  | _ => none }
def positionBackRow : OpenClaim := { program := "ytmoljdgalonlpaadoor", sum := "8005b8afb780fb9654f7bd9a20584bd5c5b9f2812859160651c6f9396fa287a2", func := "rosetta/rosettalaw02.PositionBack", spec := "positionBack", inPlace := ["internal/bytealg.CountString", "internal/bytealg.IndexByteString", "internal/bytealg.IndexString"], unfollowed := true, recurses := true, named := ["internal/bytealg.MaxLen", "unicode/utf8.first", "unicode/utf8.acceptRanges"], apart := false, laid := [("unicode/utf8.acceptRanges", laid_unicode_utf8_acceptRanges), ("unicode/utf8.first", laid_unicode_utf8_first)] }
def PositionBackSaid : Prop := positionBackRow.holds Tryd.pinned (OpenSpec.ofChange positionBackSpec)

/-- ITS FALSE NEIGHBOUR: 'it returns false'. Refute it at one input. -/
def positionBackWrong : ChangeSpec := { name := "positionBack", fn := fun _ => fun
  | [d] => { results := [.lit (.bool false)], args := [d] }
  | _ => none }
def PositionBackWrongFalsely : Prop := positionBackRow.holds Tryd.pinned (OpenSpec.ofChange positionBackWrong)

/-- 'rosettalaw02.PositionJoins': WHATEVER THE INPUT: true; the input reads as it did. -/
def positionJoinsSpec : ChangeSpec := { name := "positionJoins", fn := fun _ => fun
  | [d] => { results := [.lit (.bool true)], args := [d] }
  | _ => none }
def positionJoinsRow : OpenClaim := { program := "ytmoljdgalonlpaadoor", sum := "8005b8afb780fb9654f7bd9a20584bd5c5b9f2812859160651c6f9396fa287a2", func := "rosetta/rosettalaw02.PositionJoins", spec := "positionJoins", inPlace := ["internal/bytealg.CountString", "internal/bytealg.IndexByteString", "internal/bytealg.IndexString"], unfollowed := true, recurses := true, named := ["internal/bytealg.MaxLen", "unicode/utf8.first", "unicode/utf8.acceptRanges"], apart := false, laid := [("unicode/utf8.acceptRanges", laid_unicode_utf8_acceptRanges), ("unicode/utf8.first", laid_unicode_utf8_first)] }
def PositionJoinsSaid : Prop := positionJoinsRow.holds Tryd.pinned (OpenSpec.ofChange positionJoinsSpec)

/-- ITS FALSE NEIGHBOUR: 'it returns false'. Refute it at one input. -/
def positionJoinsWrong : ChangeSpec := { name := "positionJoins", fn := fun _ => fun
  | [d] => { results := [.lit (.bool false)], args := [d] }
  | _ => none }
def PositionJoinsWrongFalsely : Prop := positionJoinsRow.holds Tryd.pinned (OpenSpec.ofChange positionJoinsWrong)

/-- 'rosettalaw02.PositionIndents': WHATEVER THE INPUT: true; the input reads as it did. -/
def positionIndentsSpec : ChangeSpec := { name := "positionIndents", fn := fun _ => fun
  | [d] => { results := [.lit (.bool true)], args := [d] }
  | _ => none }
def positionIndentsRow : OpenClaim := { program := "ytmoljdgalonlpaadoor", sum := "8005b8afb780fb9654f7bd9a20584bd5c5b9f2812859160651c6f9396fa287a2", func := "rosetta/rosettalaw02.PositionIndents", spec := "positionIndents", inPlace := ["internal/bytealg.IndexByteString", "internal/bytealg.IndexString", "internal/bytealg.CountString"], unfollowed := true, recurses := true, named := ["unicode/utf8.first", "unicode/utf8.acceptRanges", "internal/bytealg.MaxLen"], apart := false, laid := [("unicode/utf8.acceptRanges", laid_unicode_utf8_acceptRanges), ("unicode/utf8.first", laid_unicode_utf8_first)] }
def PositionIndentsSaid : Prop := positionIndentsRow.holds Tryd.pinned (OpenSpec.ofChange positionIndentsSpec)

/-- ITS FALSE NEIGHBOUR: 'it returns false'. Refute it at one input. -/
def positionIndentsWrong : ChangeSpec := { name := "positionIndents", fn := fun _ => fun
  | [d] => { results := [.lit (.bool false)], args := [d] }
  | _ => none }
def PositionIndentsWrongFalsely : Prop := positionIndentsRow.holds Tryd.pinned (OpenSpec.ofChange positionIndentsWrong)

/- THE SECOND FORM. 'bulk': how many values and letters a reading holds, each counted each time it is reached (what is shared counts as often as it is met; a slice's spare places count too). A statement '..UptoSaid' is the law's where the arguments, and the package variables that the reading takes, are together of bulk at most 1048576: NARROWER than '..Said'. Prove '..Said' where nothing that the law and all that it calls make is longer than what came in: it says more and counts as full. Else prove '..UptoSaid'. A law counts once. -/
mutual
def uptoBulk {H : Type} : DataW H → Nat
  | .lit (.string bytes) => bytes.length + 1
  | .lit _ => 1
  | .nil => 1
  | .ptr d => uptoBulk d + 1
  | .slice elems spare => uptoBulkAll elems + uptoBulkAll spare + 1
  | .agg parts => uptoBulkAll parts + 1
  | .iface _ d => uptoBulk d + 1
  | .map entries => uptoBulkEntries entries + 1
  | .held _ => 1
def uptoBulkAll {H : Type} : List (DataW H) → Nat
  | [] => 0
  | d :: r => uptoBulk d + uptoBulkAll r
def uptoBulkEntries {H : Type} : List (Lit × DataW H) → Nat
  | [] => 0
  | x :: r => uptoBulkEntry x + uptoBulkEntries r
def uptoBulkEntry {H : Type} : Lit × DataW H → Nat
  | (.string bytes, d) => bytes.length + uptoBulk d + 1
  | (_, d) => uptoBulk d + 1
 end
def uptoSmall : (H : Type) → List (DataW H) → Bool := fun _ ds => decide (uptoBulkAll ds ≤ 1048576)
def OpenSpec.upto (s : _root_.Go.ChangeSpec) : _root_.Go.OpenSpec := { _root_.Go.OpenSpec.ofChange s with cond := some uptoSmall }

/-- 'rosettalaw01.CodepointDecodes', WHERE WHAT IT READS IS OF BULK AT MOST 1048576: true; the input reads as it did. -/
def codepointDecodesUptoRow : OpenClaim := { program := "ytmoljdgalonlpaadoor", sum := "8005b8afb780fb9654f7bd9a20584bd5c5b9f2812859160651c6f9396fa287a2", func := "rosetta/rosettalaw01.CodepointDecodes", spec := "codepointDecodes", named := ["unicode/utf8.first", "unicode/utf8.acceptRanges"], apart := false, laid := [("unicode/utf8.acceptRanges", laid_unicode_utf8_acceptRanges), ("unicode/utf8.first", laid_unicode_utf8_first)], narrowed := true }
def CodepointDecodesUptoSaid : Prop := codepointDecodesUptoRow.holds Tryd.pinned (OpenSpec.upto codepointDecodesSpec)

/-- 'rosettalaw01.CodepointEncodes', WHERE WHAT IT READS IS OF BULK AT MOST 1048576: true; the input reads as it did. -/
def codepointEncodesUptoRow : OpenClaim := { program := "ytmoljdgalonlpaadoor", sum := "8005b8afb780fb9654f7bd9a20584bd5c5b9f2812859160651c6f9396fa287a2", func := "rosetta/rosettalaw01.CodepointEncodes", spec := "codepointEncodes", inPlace := ["internal/abi.NoEscape"], named := ["unicode/utf8.first", "unicode/utf8.acceptRanges"], apart := false, laid := [("unicode/utf8.acceptRanges", laid_unicode_utf8_acceptRanges), ("unicode/utf8.first", laid_unicode_utf8_first)], narrowed := true }
def CodepointEncodesUptoSaid : Prop := codepointEncodesUptoRow.holds Tryd.pinned (OpenSpec.upto codepointEncodesSpec)

/-- 'rosettalaw01.CodepointFeeds', WHERE WHAT IT READS IS OF BULK AT MOST 1048576: true; the input reads as it did. -/
def codepointFeedsUptoRow : OpenClaim := { program := "ytmoljdgalonlpaadoor", sum := "8005b8afb780fb9654f7bd9a20584bd5c5b9f2812859160651c6f9396fa287a2", func := "rosetta/rosettalaw01.CodepointFeeds", spec := "codepointFeeds", named := ["unicode/utf8.first", "unicode/utf8.acceptRanges"], apart := false, laid := [("unicode/utf8.acceptRanges", laid_unicode_utf8_acceptRanges), ("unicode/utf8.first", laid_unicode_utf8_first)], narrowed := true }
def CodepointFeedsUptoSaid : Prop := codepointFeedsUptoRow.holds Tryd.pinned (OpenSpec.upto codepointFeedsSpec)

/-- 'rosettalaw01.CodepointTrips', WHERE WHAT IT READS IS OF BULK AT MOST 1048576: true; the input reads as it did. -/
def codepointTripsUptoRow : OpenClaim := { program := "ytmoljdgalonlpaadoor", sum := "8005b8afb780fb9654f7bd9a20584bd5c5b9f2812859160651c6f9396fa287a2", func := "rosetta/rosettalaw01.CodepointTrips", spec := "codepointTrips", inPlace := ["internal/abi.NoEscape"], named := ["unicode/utf8.first", "unicode/utf8.acceptRanges"], apart := false, laid := [("unicode/utf8.acceptRanges", laid_unicode_utf8_acceptRanges), ("unicode/utf8.first", laid_unicode_utf8_first)], narrowed := true }
def CodepointTripsUptoSaid : Prop := codepointTripsUptoRow.holds Tryd.pinned (OpenSpec.upto codepointTripsSpec)

/-- 'rosettalaw01.CodepointOrders', WHERE WHAT IT READS IS OF BULK AT MOST 1048576: true; the input reads as it did. -/
def codepointOrdersUptoRow : OpenClaim := { program := "ytmoljdgalonlpaadoor", sum := "8005b8afb780fb9654f7bd9a20584bd5c5b9f2812859160651c6f9396fa287a2", func := "rosetta/rosettalaw01.CodepointOrders", spec := "codepointOrders", named := ["unicode/utf8.first", "unicode/utf8.acceptRanges"], apart := false, laid := [("unicode/utf8.acceptRanges", laid_unicode_utf8_acceptRanges), ("unicode/utf8.first", laid_unicode_utf8_first)], narrowed := true }
def CodepointOrdersUptoSaid : Prop := codepointOrdersUptoRow.holds Tryd.pinned (OpenSpec.upto codepointOrdersSpec)

/-- 'rosettalaw01.CodepointJoins', WHERE WHAT IT READS IS OF BULK AT MOST 1048576: true; the input reads as it did. -/
def codepointJoinsUptoRow : OpenClaim := { program := "ytmoljdgalonlpaadoor", sum := "8005b8afb780fb9654f7bd9a20584bd5c5b9f2812859160651c6f9396fa287a2", func := "rosetta/rosettalaw01.CodepointJoins", spec := "codepointJoins", named := ["unicode/utf8.first", "unicode/utf8.acceptRanges"], apart := false, laid := [("unicode/utf8.acceptRanges", laid_unicode_utf8_acceptRanges), ("unicode/utf8.first", laid_unicode_utf8_first)], narrowed := true }
def CodepointJoinsUptoSaid : Prop := codepointJoinsUptoRow.holds Tryd.pinned (OpenSpec.upto codepointJoinsSpec)

/-- 'rosettalaw01.CodepointForks', WHERE WHAT IT READS IS OF BULK AT MOST 1048576: true; the input reads as it did. -/
def codepointForksUptoRow : OpenClaim := { program := "ytmoljdgalonlpaadoor", sum := "8005b8afb780fb9654f7bd9a20584bd5c5b9f2812859160651c6f9396fa287a2", func := "rosetta/rosettalaw01.CodepointForks", spec := "codepointForks", named := ["unicode/utf8.first", "unicode/utf8.acceptRanges"], apart := false, laid := [("unicode/utf8.acceptRanges", laid_unicode_utf8_acceptRanges), ("unicode/utf8.first", laid_unicode_utf8_first)], narrowed := true }
def CodepointForksUptoSaid : Prop := codepointForksUptoRow.holds Tryd.pinned (OpenSpec.upto codepointForksSpec)

/-- 'rosettalaw02.PositionFinds', WHERE WHAT IT READS IS OF BULK AT MOST 1048576: true; the input reads as it did. -/
def positionFindsUptoRow : OpenClaim := { program := "ytmoljdgalonlpaadoor", sum := "8005b8afb780fb9654f7bd9a20584bd5c5b9f2812859160651c6f9396fa287a2", func := "rosetta/rosettalaw02.PositionFinds", spec := "positionFinds", inPlace := ["internal/bytealg.CountString", "internal/bytealg.IndexByteString", "internal/bytealg.IndexString"], unfollowed := true, recurses := true, named := ["internal/bytealg.MaxLen", "unicode/utf8.first", "unicode/utf8.acceptRanges"], apart := false, laid := [("unicode/utf8.acceptRanges", laid_unicode_utf8_acceptRanges), ("unicode/utf8.first", laid_unicode_utf8_first)], narrowed := true }
def PositionFindsUptoSaid : Prop := positionFindsUptoRow.holds Tryd.pinned (OpenSpec.upto positionFindsSpec)

/-- 'rosettalaw02.PositionReturns', WHERE WHAT IT READS IS OF BULK AT MOST 1048576: true; the input reads as it did. -/
def positionReturnsUptoRow : OpenClaim := { program := "ytmoljdgalonlpaadoor", sum := "8005b8afb780fb9654f7bd9a20584bd5c5b9f2812859160651c6f9396fa287a2", func := "rosetta/rosettalaw02.PositionReturns", spec := "positionReturns", inPlace := ["internal/bytealg.CountString", "internal/bytealg.IndexByteString", "internal/bytealg.IndexString"], unfollowed := true, recurses := true, named := ["internal/bytealg.MaxLen", "unicode/utf8.first", "unicode/utf8.acceptRanges"], apart := false, laid := [("unicode/utf8.acceptRanges", laid_unicode_utf8_acceptRanges), ("unicode/utf8.first", laid_unicode_utf8_first)], narrowed := true }
def PositionReturnsUptoSaid : Prop := positionReturnsUptoRow.holds Tryd.pinned (OpenSpec.upto positionReturnsSpec)

/-- 'rosettalaw02.PositionBack', WHERE WHAT IT READS IS OF BULK AT MOST 1048576: true; the input reads as it did. -/
def positionBackUptoRow : OpenClaim := { program := "ytmoljdgalonlpaadoor", sum := "8005b8afb780fb9654f7bd9a20584bd5c5b9f2812859160651c6f9396fa287a2", func := "rosetta/rosettalaw02.PositionBack", spec := "positionBack", inPlace := ["internal/bytealg.CountString", "internal/bytealg.IndexByteString", "internal/bytealg.IndexString"], unfollowed := true, recurses := true, named := ["internal/bytealg.MaxLen", "unicode/utf8.first", "unicode/utf8.acceptRanges"], apart := false, laid := [("unicode/utf8.acceptRanges", laid_unicode_utf8_acceptRanges), ("unicode/utf8.first", laid_unicode_utf8_first)], narrowed := true }
def PositionBackUptoSaid : Prop := positionBackUptoRow.holds Tryd.pinned (OpenSpec.upto positionBackSpec)

/-- 'rosettalaw02.PositionJoins', WHERE WHAT IT READS IS OF BULK AT MOST 1048576: true; the input reads as it did. -/
def positionJoinsUptoRow : OpenClaim := { program := "ytmoljdgalonlpaadoor", sum := "8005b8afb780fb9654f7bd9a20584bd5c5b9f2812859160651c6f9396fa287a2", func := "rosetta/rosettalaw02.PositionJoins", spec := "positionJoins", inPlace := ["internal/bytealg.CountString", "internal/bytealg.IndexByteString", "internal/bytealg.IndexString"], unfollowed := true, recurses := true, named := ["internal/bytealg.MaxLen", "unicode/utf8.first", "unicode/utf8.acceptRanges"], apart := false, laid := [("unicode/utf8.acceptRanges", laid_unicode_utf8_acceptRanges), ("unicode/utf8.first", laid_unicode_utf8_first)], narrowed := true }
def PositionJoinsUptoSaid : Prop := positionJoinsUptoRow.holds Tryd.pinned (OpenSpec.upto positionJoinsSpec)

/-- 'rosettalaw02.PositionIndents', WHERE WHAT IT READS IS OF BULK AT MOST 1048576: true; the input reads as it did. -/
def positionIndentsUptoRow : OpenClaim := { program := "ytmoljdgalonlpaadoor", sum := "8005b8afb780fb9654f7bd9a20584bd5c5b9f2812859160651c6f9396fa287a2", func := "rosetta/rosettalaw02.PositionIndents", spec := "positionIndents", inPlace := ["internal/bytealg.IndexByteString", "internal/bytealg.IndexString", "internal/bytealg.CountString"], unfollowed := true, recurses := true, named := ["unicode/utf8.first", "unicode/utf8.acceptRanges", "internal/bytealg.MaxLen"], apart := false, laid := [("unicode/utf8.acceptRanges", laid_unicode_utf8_acceptRanges), ("unicode/utf8.first", laid_unicode_utf8_first)], narrowed := true }
def PositionIndentsUptoSaid : Prop := positionIndentsUptoRow.holds Tryd.pinned (OpenSpec.upto positionIndentsSpec)

end Rows
end Go.Proofs.YtmoljdgalonlpaaDoor
