/-
  NARROWER THAN 'FOR EVERY INPUT', by the rows' own cells (each row's printed sentence says how): CivilDays: laid · CivilDates: laid · CivilTrips: laid · CivilWeeks: laid · CivilOrders: laid · CivilCycles: laid · CivilLeaps: laid.
  DERIVED. THE GIVEN ROWS OF THIS SEAT. 7 by the template 'for every input the law returns true; each argument reads behind the call as it read before'; 0 by the template 'total and deterministic' (their statements: YtmnopohjnbpinaaDoorTotals.lean).
  GIVEN WITH THE SEED: the statements are not yours to turn. If you find one false, say at which input.
  Laid BY PROGRAM, IN A SANDBOX (cutbox-rows.mjs): the forced cells as the released guide's own fill.sh prints them over the translation d770a5c8a9ea690c… (all of the seat's roots in one cut). By AI agents, Wed Nov 11 2026. No macro, syntax, notation, axiom, sorry.
-/
import Derived.Test.YtmnopohjnbpinaaDoorChecked
import GoSem.Claim
import GoSem.ClaimJoined
import GoSem.ClaimMapViews
import Derived.JoinedTies
import Derived.KernelRfl
namespace Go.Proofs.YtmnopohjnbpinaaDoor
/- THE CELL 'sum', in the pinned program and in every row, IS THE sha256 OF THE DUMP (.gsa) THAT YtmnopohjnbpinaaDoorProg.lean LOADS. Nothing in Lean hashes anything: it is a label: what it is worth is what the hold of that sum in a sandbox is worth. -/
noncomputable def Tryd.pinned : Pinned := { name := "ytmnopohjnbpinaadoor", sum := "d770a5c8a9ea690c63351f5d0712ff514f08a05232117253e43fb1b95dc4349d", checked := Tryd.checked }
namespace Rows
def none {H : Type} : Left H := { results := [], args := [] }

/- WHAT THE LISTED PACKAGE-LEVEL VARIABLES READ AS WHEN THE CALL BEGINS. Each datum BY PROGRAM (the guide's laid-datum.mjs) off the statement by which the dump's own 'gosem.cut.vars' lays the variable. In a bare row this is a premise. The card (YtmnopohjnbpinaaDoorCards.lean) ties it to the program's text. -/
def laid_rosetta_civil_lengths {H : Type} : DataW H := .agg [.lit (.int .i64 0), .lit (.int .i64 31), .lit (.int .i64 28), .lit (.int .i64 31), .lit (.int .i64 30), .lit (.int .i64 31), .lit (.int .i64 30), .lit (.int .i64 31), .lit (.int .i64 31), .lit (.int .i64 30), .lit (.int .i64 31), .lit (.int .i64 30), .lit (.int .i64 31)]

/-- 'rosettalaw06.CivilDays': WHATEVER THE INPUT: true; the input reads as it did. -/
def civilDaysSpec : ChangeSpec := { name := "civilDays", fn := fun _ => fun
  | [d1, d2, d3] => { results := [.lit (.bool true)], args := [d1, d2, d3] }
  | _ => none }
def civilDaysRow : OpenClaim := { program := "ytmnopohjnbpinaadoor", sum := "d770a5c8a9ea690c63351f5d0712ff514f08a05232117253e43fb1b95dc4349d", func := "rosetta/rosettalaw06.CivilDays", spec := "civilDays", unfollowed := true, recurses := true, named := ["rosetta/civil.lengths"], apart := false, laid := [("rosetta/civil.lengths", laid_rosetta_civil_lengths)] }
def CivilDaysSaid : Prop := civilDaysRow.holds Tryd.pinned (OpenSpec.ofChange civilDaysSpec)

/-- ITS FALSE NEIGHBOUR: 'it returns false'. Refute it at one input. -/
def civilDaysWrong : ChangeSpec := { name := "civilDays", fn := fun _ => fun
  | [d1, d2, d3] => { results := [.lit (.bool false)], args := [d1, d2, d3] }
  | _ => none }
def CivilDaysWrongFalsely : Prop := civilDaysRow.holds Tryd.pinned (OpenSpec.ofChange civilDaysWrong)

/-- 'rosettalaw06.CivilDates': WHATEVER THE INPUT: true; the input reads as it did. -/
def civilDatesSpec : ChangeSpec := { name := "civilDates", fn := fun _ => fun
  | [d] => { results := [.lit (.bool true)], args := [d] }
  | _ => none }
def civilDatesRow : OpenClaim := { program := "ytmnopohjnbpinaadoor", sum := "d770a5c8a9ea690c63351f5d0712ff514f08a05232117253e43fb1b95dc4349d", func := "rosetta/rosettalaw06.CivilDates", spec := "civilDates", unfollowed := true, recurses := true, named := ["rosetta/civil.lengths"], apart := false, laid := [("rosetta/civil.lengths", laid_rosetta_civil_lengths)] }
def CivilDatesSaid : Prop := civilDatesRow.holds Tryd.pinned (OpenSpec.ofChange civilDatesSpec)

/-- ITS FALSE NEIGHBOUR: 'it returns false'. Refute it at one input. -/
def civilDatesWrong : ChangeSpec := { name := "civilDates", fn := fun _ => fun
  | [d] => { results := [.lit (.bool false)], args := [d] }
  | _ => none }
def CivilDatesWrongFalsely : Prop := civilDatesRow.holds Tryd.pinned (OpenSpec.ofChange civilDatesWrong)

/-- 'rosettalaw06.CivilTrips': WHATEVER THE INPUT: true; the input reads as it did. -/
def civilTripsSpec : ChangeSpec := { name := "civilTrips", fn := fun _ => fun
  | [d1, d2] => { results := [.lit (.bool true)], args := [d1, d2] }
  | _ => none }
def civilTripsRow : OpenClaim := { program := "ytmnopohjnbpinaadoor", sum := "d770a5c8a9ea690c63351f5d0712ff514f08a05232117253e43fb1b95dc4349d", func := "rosetta/rosettalaw06.CivilTrips", spec := "civilTrips", unfollowed := true, recurses := true, named := ["rosetta/civil.lengths"], apart := false, laid := [("rosetta/civil.lengths", laid_rosetta_civil_lengths)] }
def CivilTripsSaid : Prop := civilTripsRow.holds Tryd.pinned (OpenSpec.ofChange civilTripsSpec)

/-- ITS FALSE NEIGHBOUR: 'it returns false'. Refute it at one input. -/
def civilTripsWrong : ChangeSpec := { name := "civilTrips", fn := fun _ => fun
  | [d1, d2] => { results := [.lit (.bool false)], args := [d1, d2] }
  | _ => none }
def CivilTripsWrongFalsely : Prop := civilTripsRow.holds Tryd.pinned (OpenSpec.ofChange civilTripsWrong)

/-- 'rosettalaw06.CivilWeeks': WHATEVER THE INPUT: true; the input reads as it did. -/
def civilWeeksSpec : ChangeSpec := { name := "civilWeeks", fn := fun _ => fun
  | [d] => { results := [.lit (.bool true)], args := [d] }
  | _ => none }
def civilWeeksRow : OpenClaim := { program := "ytmnopohjnbpinaadoor", sum := "d770a5c8a9ea690c63351f5d0712ff514f08a05232117253e43fb1b95dc4349d", func := "rosetta/rosettalaw06.CivilWeeks", spec := "civilWeeks", unfollowed := true, recurses := true, named := ["rosetta/civil.lengths"], apart := false, laid := [("rosetta/civil.lengths", laid_rosetta_civil_lengths)] }
def CivilWeeksSaid : Prop := civilWeeksRow.holds Tryd.pinned (OpenSpec.ofChange civilWeeksSpec)

/-- ITS FALSE NEIGHBOUR: 'it returns false'. Refute it at one input. -/
def civilWeeksWrong : ChangeSpec := { name := "civilWeeks", fn := fun _ => fun
  | [d] => { results := [.lit (.bool false)], args := [d] }
  | _ => none }
def CivilWeeksWrongFalsely : Prop := civilWeeksRow.holds Tryd.pinned (OpenSpec.ofChange civilWeeksWrong)

/-- 'rosettalaw06.CivilOrders': WHATEVER THE INPUT: true; the input reads as it did. -/
def civilOrdersSpec : ChangeSpec := { name := "civilOrders", fn := fun _ => fun
  | [d1, d2] => { results := [.lit (.bool true)], args := [d1, d2] }
  | _ => none }
def civilOrdersRow : OpenClaim := { program := "ytmnopohjnbpinaadoor", sum := "d770a5c8a9ea690c63351f5d0712ff514f08a05232117253e43fb1b95dc4349d", func := "rosetta/rosettalaw06.CivilOrders", spec := "civilOrders", unfollowed := true, recurses := true, named := ["rosetta/civil.lengths"], apart := false, laid := [("rosetta/civil.lengths", laid_rosetta_civil_lengths)] }
def CivilOrdersSaid : Prop := civilOrdersRow.holds Tryd.pinned (OpenSpec.ofChange civilOrdersSpec)

/-- ITS FALSE NEIGHBOUR: 'it returns false'. Refute it at one input. -/
def civilOrdersWrong : ChangeSpec := { name := "civilOrders", fn := fun _ => fun
  | [d1, d2] => { results := [.lit (.bool false)], args := [d1, d2] }
  | _ => none }
def CivilOrdersWrongFalsely : Prop := civilOrdersRow.holds Tryd.pinned (OpenSpec.ofChange civilOrdersWrong)

/-- 'rosettalaw06.CivilCycles': WHATEVER THE INPUT: true; the input reads as it did. -/
def civilCyclesSpec : ChangeSpec := { name := "civilCycles", fn := fun _ => fun
  | [d] => { results := [.lit (.bool true)], args := [d] }
  | _ => none }
def civilCyclesRow : OpenClaim := { program := "ytmnopohjnbpinaadoor", sum := "d770a5c8a9ea690c63351f5d0712ff514f08a05232117253e43fb1b95dc4349d", func := "rosetta/rosettalaw06.CivilCycles", spec := "civilCycles", unfollowed := true, recurses := true, named := ["rosetta/civil.lengths"], apart := false, laid := [("rosetta/civil.lengths", laid_rosetta_civil_lengths)] }
def CivilCyclesSaid : Prop := civilCyclesRow.holds Tryd.pinned (OpenSpec.ofChange civilCyclesSpec)

/-- ITS FALSE NEIGHBOUR: 'it returns false'. Refute it at one input. -/
def civilCyclesWrong : ChangeSpec := { name := "civilCycles", fn := fun _ => fun
  | [d] => { results := [.lit (.bool false)], args := [d] }
  | _ => none }
def CivilCyclesWrongFalsely : Prop := civilCyclesRow.holds Tryd.pinned (OpenSpec.ofChange civilCyclesWrong)

/-- 'rosettalaw06.CivilLeaps': WHATEVER THE INPUT: true; the input reads as it did. -/
def civilLeapsSpec : ChangeSpec := { name := "civilLeaps", fn := fun _ => fun
  | [d] => { results := [.lit (.bool true)], args := [d] }
  | _ => none }
def civilLeapsRow : OpenClaim := { program := "ytmnopohjnbpinaadoor", sum := "d770a5c8a9ea690c63351f5d0712ff514f08a05232117253e43fb1b95dc4349d", func := "rosetta/rosettalaw06.CivilLeaps", spec := "civilLeaps", unfollowed := true, recurses := true, named := ["rosetta/civil.lengths"], apart := false, laid := [("rosetta/civil.lengths", laid_rosetta_civil_lengths)] }
def CivilLeapsSaid : Prop := civilLeapsRow.holds Tryd.pinned (OpenSpec.ofChange civilLeapsSpec)

/-- ITS FALSE NEIGHBOUR: 'it returns false'. Refute it at one input. -/
def civilLeapsWrong : ChangeSpec := { name := "civilLeaps", fn := fun _ => fun
  | [d] => { results := [.lit (.bool false)], args := [d] }
  | _ => none }
def CivilLeapsWrongFalsely : Prop := civilLeapsRow.holds Tryd.pinned (OpenSpec.ofChange civilLeapsWrong)

/- THE SECOND FORM. 'bulk': how many values and letters a reading holds, each counted each time it is reached (what is shared counts as often as it is met; a slice's spare places count too). A statement '..UptoSaid' is the law's where the arguments, and the package variables that the reading takes, are together of bulk at most 1048576: NARROWER than '..Said'. Prove '..Said' where nothing that the law and all that it calls make is longer than what came in: it says more and counts as full. Else prove '..UptoSaid'. A law counts once. -/
mutual
def uptoBulk {H : Type} : DataW H → Nat
  | .lit (.string bytes) => bytes.length + 1
  | .lit _ => 1
  | .nil => 1
  | .ptr d => uptoBulk d + 1
  | .slice elems spare => uptoBulkAll elems + uptoBulkAll spare + 1
  | .agg parts => uptoBulkAll parts + 1
  | .iface _ d => uptoBulk d + 1
  | .map entries => uptoBulkEntries entries + 1
  | .held _ => 1
def uptoBulkAll {H : Type} : List (DataW H) → Nat
  | [] => 0
  | d :: r => uptoBulk d + uptoBulkAll r
def uptoBulkEntries {H : Type} : List (Lit × DataW H) → Nat
  | [] => 0
  | x :: r => uptoBulkEntry x + uptoBulkEntries r
def uptoBulkEntry {H : Type} : Lit × DataW H → Nat
  | (.string bytes, d) => bytes.length + uptoBulk d + 1
  | (_, d) => uptoBulk d + 1
 end
def uptoSmall : (H : Type) → List (DataW H) → Bool := fun _ ds => decide (uptoBulkAll ds ≤ 1048576)
def OpenSpec.upto (s : _root_.Go.ChangeSpec) : _root_.Go.OpenSpec := { _root_.Go.OpenSpec.ofChange s with cond := some uptoSmall }

/-- 'rosettalaw06.CivilDays', WHERE WHAT IT READS IS OF BULK AT MOST 1048576: true; the input reads as it did. -/
def civilDaysUptoRow : OpenClaim := { program := "ytmnopohjnbpinaadoor", sum := "d770a5c8a9ea690c63351f5d0712ff514f08a05232117253e43fb1b95dc4349d", func := "rosetta/rosettalaw06.CivilDays", spec := "civilDays", unfollowed := true, recurses := true, named := ["rosetta/civil.lengths"], apart := false, laid := [("rosetta/civil.lengths", laid_rosetta_civil_lengths)], narrowed := true }
def CivilDaysUptoSaid : Prop := civilDaysUptoRow.holds Tryd.pinned (OpenSpec.upto civilDaysSpec)

/-- 'rosettalaw06.CivilDates', WHERE WHAT IT READS IS OF BULK AT MOST 1048576: true; the input reads as it did. -/
def civilDatesUptoRow : OpenClaim := { program := "ytmnopohjnbpinaadoor", sum := "d770a5c8a9ea690c63351f5d0712ff514f08a05232117253e43fb1b95dc4349d", func := "rosetta/rosettalaw06.CivilDates", spec := "civilDates", unfollowed := true, recurses := true, named := ["rosetta/civil.lengths"], apart := false, laid := [("rosetta/civil.lengths", laid_rosetta_civil_lengths)], narrowed := true }
def CivilDatesUptoSaid : Prop := civilDatesUptoRow.holds Tryd.pinned (OpenSpec.upto civilDatesSpec)

/-- 'rosettalaw06.CivilTrips', WHERE WHAT IT READS IS OF BULK AT MOST 1048576: true; the input reads as it did. -/
def civilTripsUptoRow : OpenClaim := { program := "ytmnopohjnbpinaadoor", sum := "d770a5c8a9ea690c63351f5d0712ff514f08a05232117253e43fb1b95dc4349d", func := "rosetta/rosettalaw06.CivilTrips", spec := "civilTrips", unfollowed := true, recurses := true, named := ["rosetta/civil.lengths"], apart := false, laid := [("rosetta/civil.lengths", laid_rosetta_civil_lengths)], narrowed := true }
def CivilTripsUptoSaid : Prop := civilTripsUptoRow.holds Tryd.pinned (OpenSpec.upto civilTripsSpec)

/-- 'rosettalaw06.CivilWeeks', WHERE WHAT IT READS IS OF BULK AT MOST 1048576: true; the input reads as it did. -/
def civilWeeksUptoRow : OpenClaim := { program := "ytmnopohjnbpinaadoor", sum := "d770a5c8a9ea690c63351f5d0712ff514f08a05232117253e43fb1b95dc4349d", func := "rosetta/rosettalaw06.CivilWeeks", spec := "civilWeeks", unfollowed := true, recurses := true, named := ["rosetta/civil.lengths"], apart := false, laid := [("rosetta/civil.lengths", laid_rosetta_civil_lengths)], narrowed := true }
def CivilWeeksUptoSaid : Prop := civilWeeksUptoRow.holds Tryd.pinned (OpenSpec.upto civilWeeksSpec)

/-- 'rosettalaw06.CivilOrders', WHERE WHAT IT READS IS OF BULK AT MOST 1048576: true; the input reads as it did. -/
def civilOrdersUptoRow : OpenClaim := { program := "ytmnopohjnbpinaadoor", sum := "d770a5c8a9ea690c63351f5d0712ff514f08a05232117253e43fb1b95dc4349d", func := "rosetta/rosettalaw06.CivilOrders", spec := "civilOrders", unfollowed := true, recurses := true, named := ["rosetta/civil.lengths"], apart := false, laid := [("rosetta/civil.lengths", laid_rosetta_civil_lengths)], narrowed := true }
def CivilOrdersUptoSaid : Prop := civilOrdersUptoRow.holds Tryd.pinned (OpenSpec.upto civilOrdersSpec)

/-- 'rosettalaw06.CivilCycles', WHERE WHAT IT READS IS OF BULK AT MOST 1048576: true; the input reads as it did. -/
def civilCyclesUptoRow : OpenClaim := { program := "ytmnopohjnbpinaadoor", sum := "d770a5c8a9ea690c63351f5d0712ff514f08a05232117253e43fb1b95dc4349d", func := "rosetta/rosettalaw06.CivilCycles", spec := "civilCycles", unfollowed := true, recurses := true, named := ["rosetta/civil.lengths"], apart := false, laid := [("rosetta/civil.lengths", laid_rosetta_civil_lengths)], narrowed := true }
def CivilCyclesUptoSaid : Prop := civilCyclesUptoRow.holds Tryd.pinned (OpenSpec.upto civilCyclesSpec)

/-- 'rosettalaw06.CivilLeaps', WHERE WHAT IT READS IS OF BULK AT MOST 1048576: true; the input reads as it did. -/
def civilLeapsUptoRow : OpenClaim := { program := "ytmnopohjnbpinaadoor", sum := "d770a5c8a9ea690c63351f5d0712ff514f08a05232117253e43fb1b95dc4349d", func := "rosetta/rosettalaw06.CivilLeaps", spec := "civilLeaps", unfollowed := true, recurses := true, named := ["rosetta/civil.lengths"], apart := false, laid := [("rosetta/civil.lengths", laid_rosetta_civil_lengths)], narrowed := true }
def CivilLeapsUptoSaid : Prop := civilLeapsUptoRow.holds Tryd.pinned (OpenSpec.upto civilLeapsSpec)

end Rows
end Go.Proofs.YtmnopohjnbpinaaDoor
