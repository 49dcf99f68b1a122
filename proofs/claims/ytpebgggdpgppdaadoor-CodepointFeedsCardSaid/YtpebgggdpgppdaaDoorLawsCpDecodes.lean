/-
  Helper: the walk of CodepointDecodes: the reference, Check and Decode answer alike.
-/
import Derived.Test.YtpebgggdpgppdaaDoorLawsCpJoins
namespace Go.Proofs.YtpebgggdpgppdaaDoor
open Go.RowKit
set_option linter.unusedVariables false

def RefPost (k : Int) (xs : List Int) (w : World) (e : Ending) (w' : World) : Prop := ∃ a cap, e = .returned (.tuple #[.slice a xs.length cap, .int .i64 k]) ∧ Rr w' a xs ∧ Below w.heap.size w w'
theorem ref_rd (s : ByteArray) (w : World) (hs : s.size ≤ 100000) : Calls Tryd.prog 8 #[.string s] w (RefPost (badAt s) (ints32 (scalars s 0)) w) := by
  refine (refDecode_any s w hs).mono ?_
  rintro e w' ⟨v, rfl, hown, hb⟩
  obtain ⟨a, cap, rfl, hn, hr⟩ := rr_of_row hown
  exact ⟨a, cap, by rw [hn], hr, hb⟩
theorem is_same (xs : List Int) (hs : xs.length ≤ 1000000) (a a' : Option Addr) (cap cap' : Nat) (w : World) (hx : Rr w a xs) (hy : Rr w a' xs) : Calls Tryd.prog 9 #[.slice a xs.length cap, .slice a' xs.length cap'] w fun e w' => e = .returned (.bool true) ∧ Below w.heap.size w w' := by
  have h := is_any xs xs a a' cap cap' w hx hy hs hs
  rw [decide_eq_true (rfl : xs = xs)] at h
  exact h
theorem ints32_len (s : ByteArray) : (ints32 (scalars s 0)).length ≤ s.size := by
  unfold ints32; rw [List.length_map]; have := scalars_len s 0 (Nat.zero_le _); omega
theorem below2 {w w0 w1 : World} (h : Below w.heap.size w w0) (h1 : Below w0.heap.size w0 w1) : Below w.heap.size w w1 := h.trans (h1.mono h.size)

end Go.Proofs.YtpebgggdpgppdaaDoor
