/-
  Helper: the walk of the statement InstantReads.
-/
import Derived.Test.YtckeefjmamggmaaDoorInRI
namespace Go.Proofs.YtckeefjmamggmaaDoor
open Go.RowKit
set_option linter.unusedVariables false

set_option maxRecDepth 100000 in
set_option maxHeartbeats 4000000 in
theorem walkInstantReads (w : World) (hT : Tabs w) (s : ByteArray) (hs : s.size ≤ maxLen) : Calls Tryd.prog 3 #[.string s] w (BoolW true w) := by
  have HA := Lib.hid (awake_any w hT)
  unfold BoolW at HA
  have HT : Hid (∀ W, Below w.heap.size w W → Tabs W) := fun W hb => hT.below hb hT.1
  have HF : Hid (∀ w', Below w.heap.size w w' → BoolW true w (.returned (.bool true)) w') := fun w' h => ⟨rfl, h⟩
  generalize BoolW true w = Po at *
  clear hT
  unfold maxLen at hs
  by_cases la : 200 < s.size
  · have la2 : (200 : Int) < (s.size : Int) := by omega
    go_enter Tryd.func3, Tryd.ntmps3
    go_wp2_with fail
    refine HA.out.mono ?_
    rintro e w1 ⟨rfl, hb1⟩
    have hfin := Lib.hid (HF.out _ hb1)
    clear hb1
    go_wp2
    exact hfin.out
  have la3 : ¬ (200 : Int) < (s.size : Int) := by omega
  have H1 := Lib.hid (fun W hW => Instant_any s W hW (by omega))
  have H2 := Lib.hid (fun W => rri_any s (by omega) W)
  have HD : Hid (∀ t en t' en', InsR (momF (rd s.data.toList)) t en → InsR (momF (rd s.data.toList)) t' en' → t = t' ∧ en = en') := fun t en t' en' h h' => h.det h'
  unfold InsP at H1 H2
  generalize InsR (momF (rd s.data.toList)) = IR at *
  clear hs la
  go_enter Tryd.func3, Tryd.ntmps3
  go_wp2_with fail
  refine HA.out.mono ?_
  rintro e w1 ⟨rfl, hb1⟩
  have hB1 : Hid (Below w.heap.size w w1) := hb1
  clear hb1
  go_wp2_with fail
  refine (H1.out _ (HT.out _ hB1.out)).mono ?_
  rintro e w2 ⟨t, en, hR, rfl, hb2⟩
  have hB2 := bt hB1 hb2
  clear hb2
  go_wp2_with fail
  refine (H2.out _).mono ?_
  rintro e w3 ⟨t', en', hR', rfl, hb3⟩
  have hfin := Lib.hid (HF.out _ (bt hB2 hb3).out)
  obtain ⟨rfl, rfl⟩ := HD.out _ _ _ _ hR hR'
  clear hb3 HD hR hR' H1 H2
  go_wp2
  exact hfin.out
end Go.Proofs.YtckeefjmamggmaaDoor
