/-
  Helper: the walks of the reference's Valid and Extensible.
-/
import Derived.Test.YtpebgggdpgppdaaDoorLawsCpDecodes
import Derived.Test.YtpebgggdpgppdaaDoorFullPlain
namespace Go.Proofs.YtpebgggdpgppdaaDoor
open Go.RowKit
set_option linter.unusedVariables false

set_option maxHeartbeats 400000 in
theorem refValid_any (s : ByteArray) (w : World) (hs : s.size ≤ 100000) : Calls Tryd.prog 10 #[.string s] w fun e w' => e = .returned (.bool (decide (stop s 0 = s.size))) ∧ Below w.heap.size w w' := by
  have hR := ref_rd s w hs
  by_cases hv : stop s 0 = s.size
  · rw [badAt_ok s hv] at hR
    rw [decide_eq_true hv]
    have HR := Lib.hid hR
    clear hR hv
    generalize ints32 (scalars s 0) = xs at *
    go_enter Tryd.func10, Tryd.ntmps10
    go_wp2_with fail
    refine HR.out.mono ?_
    rintro e w1 ⟨a1, cap1, rfl, _, hb1⟩
    go_wp2_with fail
    go_ret
    exact ⟨rfl, hb1⟩
  · rw [badAt_no s hv] at hR
    rw [decide_eq_false hv]
    have HR := Lib.hid hR
    clear hR hv
    generalize ints32 (scalars s 0) = xs at *
    generalize stop s 0 = k at *
    go_enter Tryd.func10, Tryd.ntmps10
    go_wp2_with fail
    refine HR.out.mono ?_
    rintro e w1 ⟨a1, cap1, rfl, _, hb1⟩
    go_wp2_with fail
    go_ret
    exact ⟨rfl, hb1⟩

def extP (s : ByteArray) : Prop := stop s 0 = s.size ∨ incomplete (bytesFrom s (stop s 0))
instance (s : ByteArray) : Decidable (extP s) := inferInstanceAs (Decidable (_ ∨ _))
set_option maxRecDepth 100000 in
set_option maxHeartbeats 400000 in
theorem refExt_any (s : ByteArray) (w : World) (hs : s.size ≤ 100000) : Calls Tryd.prog 6 #[.string s] w fun e w' => e = .returned (.bool (decide (extP s))) ∧ Below w.heap.size w w' := by
  have hR := ref_rd s w hs
  by_cases hv : stop s 0 = s.size
  · rw [badAt_ok s hv] at hR
    rw [decide_eq_true (show extP s from .inl hv)]
    have HR := Lib.hid hR
    clear hR hv
    generalize ints32 (scalars s 0) = xs at *
    go_enter Tryd.func6, Tryd.ntmps6
    go_wp2_with fail
    refine HR.out.mono ?_
    rintro e w1 ⟨a1, cap1, rfl, _, hb1⟩
    go_wp2_with fail
    go_ret
    exact ⟨rfl, hb1⟩
  · rw [badAt_no s hv] at hR
    have hk := (stop_le s 0 (Nat.zero_le _)).2.1
    have hext : Hid (extP s ↔ incomplete (bytesFrom s (stop s 0))) := Lib.hid (by unfold extP; exact ⟨fun h => h.resolve_left hv, .inr⟩)
    have hne : stop s 0 < s.size := by omega
    have HR := Lib.hid hR
    clear hR hv hk
    generalize ints32 (scalars s 0) = xs at *
    generalize stop s 0 = k at *
    have hlen := bytesFrom_len s k
    have hlt := Lib.hid (bytes_lt s k)
    have hfe := from_ext s k
    have hts : (s.extract k s.size).size = s.size - k := by rw [ByteArray.size_extract]; omega
    have hcv := fun w => Lib.run_convert_string_bytes (P := Tryd.prog) w 9 42 5 (s.extract k s.size) Tryd.underlying9 Tryd.underlying42 Tryd.underlying5
    have HCF := Lib.hid (fun w => conv_facts w (s.extract k s.size))
    rw [hts] at hcv
    by_cases h3 : s.size - k ≤ 3
    · have hbig : Hid (incomplete (bytesFrom s k) ↔ s.size - k < (begins (bytesFrom s k)).2) := Lib.hid (by unfold incomplete; rw [hlen]; exact ⟨fun h => h.2, fun h => ⟨h3, h⟩⟩)
      go_enter Tryd.func6, Tryd.ntmps6
      go_wp2_with fail
      refine HR.out.mono ?_
      rintro e w1 ⟨a1, cap1, rfl, _, hb1⟩
      go_wp2_with fail
      obtain ⟨_, hbw, _, hcell⟩ := HCF.out w1
      have hB : Bs (Lib.bytesWorld w1 5 (s.extract k s.size)) w1.heap.size 0 (bytesFrom s k) := fun i hi => by
        rw [hlen] at hi
        rw [Nat.zero_add, hcell i (by omega), hfe]
      have hbw1 := Lib.hid (below2 hb1 hbw)
      have hcall := refBegins_any w1.heap.size 0 (grownCap w1 (s.size - k) 0 5) (bytesFrom s k) (Lib.bytesWorld w1 5 (s.extract k s.size)) hlt.out (by rw [hlen]; omega) (by rw [hlen]; omega) hB
      rw [hlen] at hcall
      refine hcall.mono ?_
      clear hcall hB hcell hbw hcv HCF hlt hfe hb1
      rintro e w2 ⟨rfl, rfl⟩
      by_cases hq : s.size - k < (begins (bytesFrom s k)).2
      · have hres : Hid (decide (extP s) = true) := Lib.hid (decide_eq_true (hext.out.2 (hbig.out.2 hq)))
        have hq2 : ((s.size - k : Nat) : Int) < ((begins (bytesFrom s k)).2 : Int) := by omega
        clear hext hbig hq hlen
        generalize begins (bytesFrom s k) = g at *
        go_wp2_with fail
        go_ret
        rw [hres.out]
        exact ⟨rfl, hbw1.out⟩
      · have hres : Hid (decide (extP s) = false) := Lib.hid (decide_eq_false (fun h => hq (hbig.out.1 (hext.out.1 h))))
        have hq2 : ¬ ((s.size - k : Nat) : Int) < ((begins (bytesFrom s k)).2 : Int) := by omega
        clear hext hbig hlen
        generalize begins (bytesFrom s k) = g at *
        go_wp2_with fail
        go_ret
        rw [hres.out]
        first | exact ⟨rfl, hbw1.out⟩ | exact ⟨congrArg (fun z => Ending.returned (.bool z)) (decide_eq_false hq), hbw1.out⟩
    · have hres : Hid (decide (extP s) = false) := Lib.hid (decide_eq_false (fun h => by
        have := (hext.out.1 h).1
        rw [hlen] at this; exact h3 this))
      clear hext hlen hfe hlt
      go_enter Tryd.func6, Tryd.ntmps6
      go_wp2_with fail
      refine HR.out.mono ?_
      rintro e w1 ⟨a1, cap1, rfl, _, hb1⟩
      have hbw1 := Lib.hid (below2 hb1 (HCF.out w1).2.1)
      go_wp2_with fail
      go_ret
      rw [hres.out]
      exact ⟨rfl, hbw1.out⟩
end Go.Proofs.YtpebgggdpgppdaaDoor
