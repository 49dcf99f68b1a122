/-
  Helper: the walks of the laws of package rosettalaw02: each returns true, whatever the input.
-/
import Derived.Test.YtmoljdgalonlpaaDoorPosAwake
namespace Go.Proofs.YtmoljdgalonlpaaDoor
open Go.RowKit
set_option linter.unusedVariables false

set_option maxHeartbeats 400000 in
theorem walkPositionIndents (w : World) (a : ByteArray) (h : a.size ≤ maxLen) :
    Calls Tryd.prog 14 #[.string a] w fun e w' => e = .returned (.bool true) ∧ Below w.heap.size w w' := by
  have h1 := Lib.hid (indent_any a w h)
  have h2 := Lib.hid (rindent_any a w h)
  generalize (a.size : Int) - ((Lib.trimLeftB a.data.toList 32).length : Nat) = x at *
  generalize Lib.hasPrefix (Lib.trimLeftB a.data.toList 32) [9] = t at *
  go_enter Tryd.func14, Tryd.ntmps14
  go_wp2_with fail
  refine h1.out.mono ?_
  rintro e w1 ⟨rfl, rfl⟩
  go_wp2_with fail
  refine h2.out.mono ?_
  rintro e w1 ⟨rfl, rfl⟩
  go_wp2_with fail
  refine (awake_any _).mono ?_
  rintro e w1 ⟨rfl, hb⟩
  go_wp2_with fail
  go_ret
  exact ⟨by cases t <;> simp, hb⟩
end Go.Proofs.YtmoljdgalonlpaaDoor
