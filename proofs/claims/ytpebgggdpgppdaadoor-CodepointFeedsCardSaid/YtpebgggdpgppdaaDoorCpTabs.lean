/-
  Helper: the two tables that the row pins are the tables that FullRune's walk reads.
-/
import Derived.Test.YtpebgggdpgppdaaDoorRows
import Derived.Test.YtpebgggdpgppdaaDoorCpAwake
import Derived.PinnedBridge
import Derived.Lib.LaidU8T
import Derived.LaidOnce
namespace Go.Proofs.YtpebgggdpgppdaaDoor
open Go.RowKit Go.Lib Go.Shelf
set_option linter.unusedVariables false

def rn : Ren := ⟨id, fun t => if t = 5 then 5 else if t = 119 then 50 else if t = 138 then 52 else 53, fun g => if g = 3 then 0 else 1⟩
theorem first_same : ∀ c, c < 256 → ((firstT c : Nat) : Int) = firstV c := by decide +kernel
theorem tabs_of {W : World} (hU : Lib.Utf8Tabs 0 1 W) : Tabs W := by
  obtain ⟨h0, h1⟩ := hU
  refine ⟨?_, fun c hc => by rw [h0 c hc]; exact congrArg _ (congrArg _ (first_same c hc)), ?_, ?_, ?_, ?_, ?_⟩
  · have h := (h1 0 (by decide)).1
    by_cases g : 1 < W.heap.size
    · exact g
    · rw [World.cell?] at h
      simp [Array.getElem?_eq_none (show W.heap.size ≤ 1 by omega)] at h
  · exact h1 0 (by decide)
  · exact h1 1 (by decide)
  · exact h1 2 (by decide)
  · exact h1 3 (by decide)
  · exact h1 4 (by decide)
theorem u8t : U8Types Tryd.prog rn := ⟨by kernel_rfl, by kernel_rfl, by kernel_rfl, by kernel_rfl⟩
theorem u8x : U8Extra Tryd.prog rn := ⟨by kernel_rfl, by kernel_rfl, by kernel_rfl, by kernel_rfl, by kernel_rfl, by kernel_rfl, by kernel_rfl⟩
theorem tabs_laid (W : World) (hL : laidMetH Tryd.prog Rows.codepointFeedsRow.laid W) : Tabs W := by
  rw [MakeChecks.laidMetH_plain _ _ _ (by kernel_rfl)] at hL
  have h1 := Lib.laidMet.reads hL (.head _)
  have h0 := Lib.laidMet.reads hL (.tail _ (.head _))
  exact tabs_of (utf8Tabs_of_readsT u8t u8x (Pinned.utf8First_eq ▸ h0) h1)
end Go.Proofs.YtpebgggdpgppdaaDoor
