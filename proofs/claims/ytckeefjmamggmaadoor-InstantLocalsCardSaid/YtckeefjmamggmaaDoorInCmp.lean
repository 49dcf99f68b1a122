/-
  Helper: the walks of cmp.Compare, cmp.Or and Cmp.
-/
import Derived.Test.YtckeefjmamggmaaDoorInSec
namespace Go.Proofs.YtckeefjmamggmaaDoor
open Go.RowKit
set_option linter.unusedVariables false

def cm (x y : Int) : Int := if x < y then -1 else if y < x then 1 else 0
end Go.Proofs.YtckeefjmamggmaaDoor
