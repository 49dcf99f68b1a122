/-
  Helper: the walk of the reference's begins: at a list of at least one byte it answers as the plain function begins does.
-/
import Derived.Test.YtpebgggdpgppdaaDoorBase
import Derived.Test.YtpebgggdpgppdaaDoorScan
import Derived.Test.YtpebgggdpgppdaaDoorProg
import Derived.WalkKit
import Derived.BigQuiet
import Derived.Deep.QuietTactic
import Derived.Lib.Hide
namespace Go.Proofs.YtpebgggdpgppdaaDoor
open Go.RowKit
set_option linter.unusedVariables false

/-- the bytes of a slice, as numbers -/
def Bs (w : World) (b off : Nat) (xs : List Nat) : Prop := ∀ i, i < xs.length → w.cell? ⟨b, off + i, none⟩ = some (.int .u8 ((xs.getD i 0 : Nat) : Int))

/-- a number that grows by six bits a byte: below 2^(6 k - 1) at place k -/
def small (k v : Nat) : Prop := (k = 1 → v < 32) ∧ (k = 2 → v < 2048) ∧ (k = 3 → v < 131072) ∧ (k = 4 → v < 8388608)
theorem small_le (k v : Nat) (h1 : 1 ≤ k) (h4 : k ≤ 4) (h : small k v) : v < 8388608 := by unfold small at h; omega
theorem small_next (k v : Nat) (h1 : 1 ≤ k) (h4 : k < 4) (h : small k v) : small (k + 1) (64 * v + 63) := by unfold small at *; omega
theorem small_mono (k v u : Nat) (h : small k v) (hu : u ≤ v) : small k u := by unfold small at *; omega
theorem getD_lt (xs : List Nat) (hx : ∀ x ∈ xs, x < 256) (i : Nat) : xs.getD i 0 < 256 := by
  by_cases h : i < xs.length
  · rw [List.getD_eq_getElem?_getD, List.getElem?_eq_getElem h]; exact hx _ (List.getElem_mem h)
  · rw [List.getD_eq_getElem?_getD, List.getElem?_eq_none (by omega)]; decide
theorem drop_getD (xs : List Nat) (k : Nat) (h : k < xs.length) : xs.drop k = xs.getD k 0 :: xs.drop (k + 1) := by
  rw [List.drop_eq_getElem_cons h, List.getD_eq_getElem?_getD, List.getElem?_eq_getElem h]; rfl

set_option maxRecDepth 100000 in
set_option maxHeartbeats 400000 in
theorem begins_ascii (b off cap c : Nat) (w : World) (hc : c < 128) (h0 : w.cell? ⟨b, off, none⟩ = some (.int .u8 (c : Int))) :
    Calls Tryd.prog 16 #[.slice (some ⟨b, off, none⟩) 1 cap] w fun e w' => e = .returned (.tuple #[.int .i64 c, .int .i64 1]) ∧ w = w' := by
  go_enter Tryd.func16, Tryd.ntmps16
  go_wp2
  go_ret2
  exact ⟨rfl, rfl⟩
set_option maxRecDepth 100000 in
set_option maxHeartbeats 1000000 in
/-- a first byte that begins no sequence of this length -/
theorem begins_none (b off cap c m : Nat) (w : World) (hm : 1 ≤ m) (hm2 : m ≤ 1000000) (h0 : w.cell? ⟨b, off, none⟩ = some (.int .u8 (c : Int))) (hc : (c < 128 ∧ 1 < m) ∨ (128 ≤ c ∧ c < 192) ∨ (248 ≤ c ∧ c < 256)) :
    Calls Tryd.prog 16 #[.slice (some ⟨b, off, none⟩) m cap] w fun e w' => e = .returned (.tuple #[.int .i64 0, .int .i64 0]) ∧ w = w' := by
  rcases hc with ⟨hc, hm3⟩ | hc | hc
  · have hne : ((m : Int) == 1) = false := by rw [beq_eq_false_iff_ne]; omega
    go_enter Tryd.func16, Tryd.ntmps16
    go_wp2
    go_ret2
    exact ⟨rfl, rfl⟩
  · go_enter Tryd.func16, Tryd.ntmps16
    go_wp2
    go_ret2
    exact ⟨rfl, rfl⟩
  · go_enter Tryd.func16, Tryd.ntmps16
    go_wp2
    go_ret2
    exact ⟨rfl, rfl⟩
end Go.Proofs.YtpebgggdpgppdaaDoor
