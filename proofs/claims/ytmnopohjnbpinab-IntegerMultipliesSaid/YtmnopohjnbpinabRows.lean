/-
  No cell of these rows narrows 'for every input' (looked for: loops, veiled, ifaces, maps, wideKeys, modest, calm, conditions, laid).
  DERIVED. THE GIVEN ROWS OF THIS SEAT. 5 by the template 'for every input the law returns true; each argument reads behind the call as it read before'; 0 by the template 'total and deterministic' (their statements: YtmnopohjnbpinabTotals.lean).
  GIVEN WITH THE SEED: the statements are not yours to turn. If you find one false, say at which input.
  Laid BY PROGRAM, IN A SANDBOX (cutbox-rows.mjs): the forced cells as the released guide's own fill.sh prints them over the translation f918ebebcd678ae4… (all of the seat's roots in one cut). By AI agents, Wed Nov 11 2026. No macro, syntax, notation, axiom, sorry.
-/
import Derived.Test.YtmnopohjnbpinabChecked
import GoSem.Claim
import GoSem.ClaimJoined
import GoSem.ClaimMapViews
import Derived.JoinedTies
import Derived.KernelRfl
namespace Go.Proofs.Ytmnopohjnbpinab
/- THE CELL 'sum', in the pinned program and in every row, IS THE sha256 OF THE DUMP (.gsa) THAT YtmnopohjnbpinabProg.lean LOADS. Nothing in Lean hashes anything: it is a label: what it is worth is what the hold of that sum in a sandbox is worth. -/
noncomputable def Try.pinned : Pinned := { name := "ytmnopohjnbpinab", sum := "f918ebebcd678ae4080b4cc691f08575db9a6e5b366d06ed8fc91a585ce78f27", checked := Try.checked }
namespace Rows
def none {H : Type} : Left H := { results := [], args := [] }

/-- 'rosettalaw03.IntegerParses': WHATEVER THE INPUT: true; the input reads as it did. -/
def integerParsesSpec : ChangeSpec := { name := "integerParses", fn := fun _ => fun
  | [d1, d2] => { results := [.lit (.bool true)], args := [d1, d2] }
  | _ => none }
def integerParsesRow : OpenClaim := { program := "ytmnopohjnbpinab", sum := "f918ebebcd678ae4080b4cc691f08575db9a6e5b366d06ed8fc91a585ce78f27", func := "rosetta/rosettalaw03.IntegerParses", spec := "integerParses", apart := false }
def IntegerParsesSaid : Prop := integerParsesRow.holds Try.pinned (OpenSpec.ofChange integerParsesSpec)

/-- ITS FALSE NEIGHBOUR: 'it returns false'. Refute it at one input. -/
def integerParsesWrong : ChangeSpec := { name := "integerParses", fn := fun _ => fun
  | [d1, d2] => { results := [.lit (.bool false)], args := [d1, d2] }
  | _ => none }
def IntegerParsesWrongFalsely : Prop := integerParsesRow.holds Try.pinned (OpenSpec.ofChange integerParsesWrong)

/-- 'rosettalaw03.IntegerTexts': WHATEVER THE INPUT: true; the input reads as it did. -/
def integerTextsSpec : ChangeSpec := { name := "integerTexts", fn := fun _ => fun
  | [d1, d2] => { results := [.lit (.bool true)], args := [d1, d2] }
  | _ => none }
def integerTextsRow : OpenClaim := { program := "ytmnopohjnbpinab", sum := "f918ebebcd678ae4080b4cc691f08575db9a6e5b366d06ed8fc91a585ce78f27", func := "rosetta/rosettalaw03.IntegerTexts", spec := "integerTexts", apart := false }
def IntegerTextsSaid : Prop := integerTextsRow.holds Try.pinned (OpenSpec.ofChange integerTextsSpec)

/-- ITS FALSE NEIGHBOUR: 'it returns false'. Refute it at one input. -/
def integerTextsWrong : ChangeSpec := { name := "integerTexts", fn := fun _ => fun
  | [d1, d2] => { results := [.lit (.bool false)], args := [d1, d2] }
  | _ => none }
def IntegerTextsWrongFalsely : Prop := integerTextsRow.holds Try.pinned (OpenSpec.ofChange integerTextsWrong)

/-- 'rosettalaw03.IntegerAdds': WHATEVER THE INPUT: true; the input reads as it did. -/
def integerAddsSpec : ChangeSpec := { name := "integerAdds", fn := fun _ => fun
  | [d1, d2] => { results := [.lit (.bool true)], args := [d1, d2] }
  | _ => none }
def integerAddsRow : OpenClaim := { program := "ytmnopohjnbpinab", sum := "f918ebebcd678ae4080b4cc691f08575db9a6e5b366d06ed8fc91a585ce78f27", func := "rosetta/rosettalaw03.IntegerAdds", spec := "integerAdds", unfollowed := true, recurses := true, apart := false }
def IntegerAddsSaid : Prop := integerAddsRow.holds Try.pinned (OpenSpec.ofChange integerAddsSpec)

/-- ITS FALSE NEIGHBOUR: 'it returns false'. Refute it at one input. -/
def integerAddsWrong : ChangeSpec := { name := "integerAdds", fn := fun _ => fun
  | [d1, d2] => { results := [.lit (.bool false)], args := [d1, d2] }
  | _ => none }
def IntegerAddsWrongFalsely : Prop := integerAddsRow.holds Try.pinned (OpenSpec.ofChange integerAddsWrong)

/-- 'rosettalaw03.IntegerMultiplies': WHATEVER THE INPUT: true; the input reads as it did. -/
def integerMultipliesSpec : ChangeSpec := { name := "integerMultiplies", fn := fun _ => fun
  | [d1, d2] => { results := [.lit (.bool true)], args := [d1, d2] }
  | _ => none }
def integerMultipliesRow : OpenClaim := { program := "ytmnopohjnbpinab", sum := "f918ebebcd678ae4080b4cc691f08575db9a6e5b366d06ed8fc91a585ce78f27", func := "rosetta/rosettalaw03.IntegerMultiplies", spec := "integerMultiplies", unfollowed := true, recurses := true, apart := false }
def IntegerMultipliesSaid : Prop := integerMultipliesRow.holds Try.pinned (OpenSpec.ofChange integerMultipliesSpec)

/-- ITS FALSE NEIGHBOUR: 'it returns false'. Refute it at one input. -/
def integerMultipliesWrong : ChangeSpec := { name := "integerMultiplies", fn := fun _ => fun
  | [d1, d2] => { results := [.lit (.bool false)], args := [d1, d2] }
  | _ => none }
def IntegerMultipliesWrongFalsely : Prop := integerMultipliesRow.holds Try.pinned (OpenSpec.ofChange integerMultipliesWrong)

/-- 'rosettalaw03.IntegerBytes': WHATEVER THE INPUT: true; the input reads as it did. -/
def integerBytesSpec : ChangeSpec := { name := "integerBytes", fn := fun _ => fun
  | [d1, d2, d3] => { results := [.lit (.bool true)], args := [d1, d2, d3] }
  | _ => none }
def integerBytesRow : OpenClaim := { program := "ytmnopohjnbpinab", sum := "f918ebebcd678ae4080b4cc691f08575db9a6e5b366d06ed8fc91a585ce78f27", func := "rosetta/rosettalaw03.IntegerBytes", spec := "integerBytes", apart := false }
def IntegerBytesSaid : Prop := integerBytesRow.holds Try.pinned (OpenSpec.ofChange integerBytesSpec)

/-- ITS FALSE NEIGHBOUR: 'it returns false'. Refute it at one input. -/
def integerBytesWrong : ChangeSpec := { name := "integerBytes", fn := fun _ => fun
  | [d1, d2, d3] => { results := [.lit (.bool false)], args := [d1, d2, d3] }
  | _ => none }
def IntegerBytesWrongFalsely : Prop := integerBytesRow.holds Try.pinned (OpenSpec.ofChange integerBytesWrong)

/- THE SECOND FORM. 'bulk': how many values and letters a reading holds, each counted each time it is reached (what is shared counts as often as it is met; a slice's spare places count too). A statement '..UptoSaid' is the law's where the arguments, and the package variables that the reading takes, are together of bulk at most 1048576: NARROWER than '..Said'. Prove '..Said' where nothing that the law and all that it calls make is longer than what came in: it says more and counts as full. Else prove '..UptoSaid'. A law counts once. -/
mutual
def uptoBulk {H : Type} : DataW H → Nat
  | .lit (.string bytes) => bytes.length + 1
  | .lit _ => 1
  | .nil => 1
  | .ptr d => uptoBulk d + 1
  | .slice elems spare => uptoBulkAll elems + uptoBulkAll spare + 1
  | .agg parts => uptoBulkAll parts + 1
  | .iface _ d => uptoBulk d + 1
  | .map entries => uptoBulkEntries entries + 1
  | .held _ => 1
def uptoBulkAll {H : Type} : List (DataW H) → Nat
  | [] => 0
  | d :: r => uptoBulk d + uptoBulkAll r
def uptoBulkEntries {H : Type} : List (Lit × DataW H) → Nat
  | [] => 0
  | x :: r => uptoBulkEntry x + uptoBulkEntries r
def uptoBulkEntry {H : Type} : Lit × DataW H → Nat
  | (.string bytes, d) => bytes.length + uptoBulk d + 1
  | (_, d) => uptoBulk d + 1
 end
def uptoSmall : (H : Type) → List (DataW H) → Bool := fun _ ds => decide (uptoBulkAll ds ≤ 1048576)
def OpenSpec.upto (s : _root_.Go.ChangeSpec) : _root_.Go.OpenSpec := { _root_.Go.OpenSpec.ofChange s with cond := some uptoSmall }

/-- 'rosettalaw03.IntegerParses', WHERE WHAT IT READS IS OF BULK AT MOST 1048576: true; the input reads as it did. -/
def integerParsesUptoRow : OpenClaim := { program := "ytmnopohjnbpinab", sum := "f918ebebcd678ae4080b4cc691f08575db9a6e5b366d06ed8fc91a585ce78f27", func := "rosetta/rosettalaw03.IntegerParses", spec := "integerParses", apart := false, narrowed := true }
def IntegerParsesUptoSaid : Prop := integerParsesUptoRow.holds Try.pinned (OpenSpec.upto integerParsesSpec)

/-- 'rosettalaw03.IntegerTexts', WHERE WHAT IT READS IS OF BULK AT MOST 1048576: true; the input reads as it did. -/
def integerTextsUptoRow : OpenClaim := { program := "ytmnopohjnbpinab", sum := "f918ebebcd678ae4080b4cc691f08575db9a6e5b366d06ed8fc91a585ce78f27", func := "rosetta/rosettalaw03.IntegerTexts", spec := "integerTexts", apart := false, narrowed := true }
def IntegerTextsUptoSaid : Prop := integerTextsUptoRow.holds Try.pinned (OpenSpec.upto integerTextsSpec)

/-- 'rosettalaw03.IntegerAdds', WHERE WHAT IT READS IS OF BULK AT MOST 1048576: true; the input reads as it did. -/
def integerAddsUptoRow : OpenClaim := { program := "ytmnopohjnbpinab", sum := "f918ebebcd678ae4080b4cc691f08575db9a6e5b366d06ed8fc91a585ce78f27", func := "rosetta/rosettalaw03.IntegerAdds", spec := "integerAdds", unfollowed := true, recurses := true, apart := false, narrowed := true }
def IntegerAddsUptoSaid : Prop := integerAddsUptoRow.holds Try.pinned (OpenSpec.upto integerAddsSpec)

/-- 'rosettalaw03.IntegerMultiplies', WHERE WHAT IT READS IS OF BULK AT MOST 1048576: true; the input reads as it did. -/
def integerMultipliesUptoRow : OpenClaim := { program := "ytmnopohjnbpinab", sum := "f918ebebcd678ae4080b4cc691f08575db9a6e5b366d06ed8fc91a585ce78f27", func := "rosetta/rosettalaw03.IntegerMultiplies", spec := "integerMultiplies", unfollowed := true, recurses := true, apart := false, narrowed := true }
def IntegerMultipliesUptoSaid : Prop := integerMultipliesUptoRow.holds Try.pinned (OpenSpec.upto integerMultipliesSpec)

/-- 'rosettalaw03.IntegerBytes', WHERE WHAT IT READS IS OF BULK AT MOST 1048576: true; the input reads as it did. -/
def integerBytesUptoRow : OpenClaim := { program := "ytmnopohjnbpinab", sum := "f918ebebcd678ae4080b4cc691f08575db9a6e5b366d06ed8fc91a585ce78f27", func := "rosetta/rosettalaw03.IntegerBytes", spec := "integerBytes", apart := false, narrowed := true }
def IntegerBytesUptoSaid : Prop := integerBytesUptoRow.holds Try.pinned (OpenSpec.upto integerBytesSpec)

end Rows
end Go.Proofs.Ytmnopohjnbpinab
