/-
  Helper: what Indent counts (plain lists), and the walks of position.Indent and of the reference's Indent: both return the number of leading spaces and whether a tab follows.
-/
import Derived.Test.YtmoljdgalonlpabDoorBase
import Derived.Test.YtmoljdgalonlpabDoorShelf
import Derived.WalkKit
import Derived.BigQuiet
import Derived.Deep.QuietTactic
namespace Go.Proofs.YtmoljdgalonlpabDoor
open Go.RowKit

theorem trim_le (l : List UInt8) : (Lib.trimLeftB l 32).length ≤ l.length := (List.dropWhile_suffix _).length_le

set_option maxHeartbeats 400000 in
theorem indent_any (s : ByteArray) (w : World) (hs : s.size ≤ maxLen) :
    Calls Tryd.prog 17 #[.string s] w fun e w' => e = .returned (.tuple #[.int .i64 ((s.size : Int) - (Lib.trimLeftB s.data.toList 32).length), .bool (Lib.hasPrefix (Lib.trimLeftB s.data.toList 32) [9])]) ∧ w = w' := by
  unfold maxLen at hs
  have hle : (Lib.trimLeftB s.data.toList 32).length ≤ s.size := by have := trim_le s.data.toList; simpa using this
  go_enter Tryd.func17, Tryd.ntmps17
  go_wp2_with (first | (go_at_call 20; refine (Tryd.strings_TrimLeft_one _ _ (by decide) _).mono ?_; rintro e w' ⟨rfl, rfl⟩) | (go_at_call 21; refine (Tryd.strings_HasPrefix _ _ _).mono ?_; rintro e w' ⟨rfl, rfl⟩))
  go_ret2
  exact ⟨rfl, rfl⟩
end Go.Proofs.YtmoljdgalonlpabDoor
