/-
  Helper: the walks of DigestSums, DigestEdges.
-/
import Derived.Test.YtnngadbmfdfmfaaDoorDgAw
namespace Go.Proofs.YtnngadbmfdfmfaaDoor
open Go.RowKit
set_option linter.unusedVariables false
set_option linter.unusedSimpArgs false

/-- the reference's sum at a world behind another -/
theorem ref_at (s : ByteArray) (w w0 : World) (hb : Below w0.heap.size w0 w) (hs : s.size ≤ 10000) :
    Calls Tryd.prog 11 #[.string s] w fun e w' => e = .returned (.string (mkS (sumF s.data.toList))) ∧ Below w0.heap.size w0 w' :=
  (refSum_any s w hs).mono fun e w' h => ⟨h.1, hb.trans (h.2.mono hb.size)⟩
set_option maxRecDepth 100000 in
set_option maxHeartbeats 4000000 in
theorem walkDigestSums (w : World) (hT : Tabs w) (a : ByteArray) (h : a.size ≤ maxLen) : Calls Tryd.prog 3 #[.string a] w fun e w' => e = .returned (.bool true) ∧ Below w.heap.size w w' := by
  have HA := Lib.hid (awake_any w hT)
  unfold maxLen at h
  by_cases hl : a.size ≤ 2000
  · have H1 := Lib.hid (fun W (hW : Below w.heap.size w W) => sum_one a W w hT hW (by omega))
    have H2 := Lib.hid (fun W (hW : Below w.heap.size w W) => ref_at a W w hW (by omega))
    have hlI : ¬ (2000 : Int) < (a.size : Int) := by omega
    clear hT
    generalize mkS (sumF a.data.toList) = r at *
    go_enter Tryd.func3, Tryd.ntmps3
    go_wp2_with fail
    refine HA.out.mono ?_
    rintro e w1 ⟨rfl, hb1⟩
    have hb1h := Lib.hid hb1
    clear hb1
    go_wp2_with fail
    refine (H1.out _ hb1h.out).mono ?_
    rintro e w2 ⟨rfl, hb2⟩
    have hb2h := Lib.hid hb2
    clear hb2
    go_wp2_with fail
    refine (H2.out _ hb2h.out).mono ?_
    rintro e w3 ⟨rfl, hb3⟩
    have hb3h := Lib.hid hb3
    clear hb3
    go_wp2
    go_ret
    exact ⟨rfl, hb3h.out⟩
  · have hlI : (2000 : Int) < (a.size : Int) := by omega
    clear hT
    go_enter Tryd.func3, Tryd.ntmps3
    go_wp2_with fail
    refine HA.out.mono ?_
    rintro e w1 ⟨rfl, hb1⟩
    have hb1h := Lib.hid hb1
    clear hb1
    go_wp2
    go_ret
    exact ⟨rfl, hb1h.out⟩
end Go.Proofs.YtnngadbmfdfmfaaDoor
