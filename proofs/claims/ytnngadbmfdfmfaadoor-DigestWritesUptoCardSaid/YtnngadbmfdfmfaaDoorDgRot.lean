/-
  Helper: the walks of RotateLeft32 and of the reference's turn.
-/
import Derived.Test.YtnngadbmfdfmfaaDoorDgNum
import Derived.Test.YtnngadbmfdfmfaaDoorProg
import Derived.WalkKit
import Derived.OwnWalk
import Derived.IntWalk
import Derived.Outline
import Derived.BigQuiet
import Derived.Deep.QuietTactic
namespace Go.Proofs.YtnngadbmfdfmfaaDoor
open Go.RowKit
set_option linter.unusedVariables false

/-- what a turn answers -/
def WordP (x : BitVec 32) (w : World) (e : Ending) (w' : World) : Prop := e = .returned (.int .u32 ((x.toNat : Nat) : Int)) ∧ w = w'
set_option maxHeartbeats 1000000 in
theorem rotl_any (x : BitVec 32) (k : Int) (s : Nat) (hk : bits .and .u64 (IntKind.u64.wrap k) 31 = (s : Int)) (hs : s ≤ 32) (w : World) :
    Calls Tryd.prog 24 #[.int .u32 ((x.toNat : Nat) : Int), .int .i64 k] w (WordP ((x <<< s) ||| (x >>> (32 - s))) w) := by
  go_enter Tryd.func24, Tryd.ntmps24
  go_wp2
  rw [x_shl, x_shr, x_or]
  go_ret
  exact ⟨rfl, rfl⟩
def WordQ (x : BitVec 32) (w : World) (e : Ending) (w' : World) : Prop := e = .returned (.int .u32 ((x.toNat : Nat) : Int)) ∧ ∃ q, w' = w.drewN q
set_option maxHeartbeats 1000000 in
theorem turn_any (x : BitVec 32) (n : Nat) (hs : n ≤ 32) (w : World) :
    Calls Tryd.prog 35 #[.int .u32 ((x.toNat : Nat) : Int), .int .i64 (n : Int)] w (WordQ (rr x n) w) := by
  have h1 : (0 : Int) ≤ (n : Int) := by omega
  have h2 : (n : Int) ≤ 32 := by omega
  have h3 : (0 : Int) ≤ 32 - (n : Int) := by omega
  have h4 : 32 - (n : Int) ≤ 32 := by omega
  have h5 : (32 - (n : Int)).toNat = 32 - n := by omega
  have h6 : (n : Int).toNat = n := by omega
  go_enter Tryd.func35, Tryd.ntmps35
  go_wp2_with fail
  go_quiet (fail)
  go_wp2
  rw [x_shl, x_shr, x_or]
  go_ret
  exact ⟨rfl, nq, rfl⟩
end Go.Proofs.YtnngadbmfdfmfaaDoor
