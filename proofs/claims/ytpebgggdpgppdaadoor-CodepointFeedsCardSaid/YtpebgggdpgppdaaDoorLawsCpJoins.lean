/-
  Helper: the walk of CodepointJoins: three checks.
-/
import Derived.Test.YtpebgggdpgppdaaDoorCpAwake
import Derived.Test.YtpebgggdpgppdaaDoorScanJoin
namespace Go.Proofs.YtpebgggdpgppdaaDoor
open Go.RowKit
set_option linter.unusedVariables false

theorem chk_ok (s : ByteArray) (w : World) (hs : s.size ≤ 1000000) (hv : stop s 0 = s.size) : Calls Tryd.prog 12 #[.string s] w fun e w' => e = .returned (.tuple #[.int .i64 (-1), .int .i64 0]) ∧ Below w.heap.size w w' := by
  have h := check_any s w hs
  rw [chkV_ok s hv] at h; exact h
theorem chk_no (s : ByteArray) (w : World) (hs : s.size ≤ 1000000) (k : Nat) (hk : k = stop s 0) (hv : ¬ stop s 0 = s.size) : Calls Tryd.prog 12 #[.string s] w fun e w' => e = .returned (.tuple #[.int .i64 k, .int .i64 11]) ∧ Below w.heap.size w w' := by
  have h := check_any s w hs
  rw [chkV_no s hv, ← hk] at h; exact h

theorem chk_some (s : ByteArray) (hs : s.size ≤ 1000000) : ∃ x y : Int, ∀ w, Calls Tryd.prog 12 #[.string s] w fun e w' => e = .returned (.tuple #[.int .i64 x, .int .i64 y]) ∧ Below w.heap.size w w' := by
  by_cases hv : stop s 0 = s.size
  · exact ⟨_, _, fun w => chk_ok s w hs hv⟩
  · exact ⟨_, _, fun w => chk_no s w hs _ rfl hv⟩
theorem below4 {w w0 w1 w2 w3 : World} (h0 : Below w.heap.size w w0) (h1 : Below w0.heap.size w0 w1) (h2 : Below w1.heap.size w1 w2) (h3 : Below w2.heap.size w2 w3) : Below w.heap.size w w3 := by
  have k1 := h0.trans (h1.mono h0.size)
  have k2 := k1.trans (h2.mono k1.size)
  exact k2.trans (h3.mono k2.size)

end Go.Proofs.YtpebgggdpgppdaaDoor
