/-
  Helper: the walk of CodepointDecodes: the reference, Check and Decode answer alike.
-/
import Derived.Test.YtmoljdgalonlpaaDoorLawsCpJoins
namespace Go.Proofs.YtmoljdgalonlpaaDoor
open Go.RowKit
set_option linter.unusedVariables false

def RefPost (k : Int) (xs : List Int) (w : World) (e : Ending) (w' : World) : Prop := ∃ a cap, e = .returned (.tuple #[.slice a xs.length cap, .int .i64 k]) ∧ Rr w' a xs ∧ Below w.heap.size w w'
theorem ref_rd (s : ByteArray) (w : World) (hs : s.size ≤ 100000) : Calls Tryd.prog 16 #[.string s] w (RefPost (badAt s) (ints32 (scalars s 0)) w) := by
  refine (refDecode_any s w hs).mono ?_
  rintro e w' ⟨v, rfl, hown, hb⟩
  obtain ⟨a, cap, rfl, hn, hr⟩ := rr_of_row hown
  exact ⟨a, cap, by rw [hn], hr, hb⟩
theorem is_same (xs : List Int) (hs : xs.length ≤ 1000000) (a a' : Option Addr) (cap cap' : Nat) (w : World) (hx : Rr w a xs) (hy : Rr w a' xs) : Calls Tryd.prog 19 #[.slice a xs.length cap, .slice a' xs.length cap'] w fun e w' => e = .returned (.bool true) ∧ Below w.heap.size w w' := by
  have h := is_any xs xs a a' cap cap' w hx hy hs hs
  rw [decide_eq_true (rfl : xs = xs)] at h
  exact h
theorem ints32_len (s : ByteArray) : (ints32 (scalars s 0)).length ≤ s.size := by
  unfold ints32; rw [List.length_map]; have := scalars_len s 0 (Nat.zero_le _); omega
theorem below2 {w w0 w1 : World} (h : Below w.heap.size w w0) (h1 : Below w0.heap.size w0 w1) : Below w.heap.size w w1 := h.trans (h1.mono h.size)

set_option maxRecDepth 100000 in
set_option maxHeartbeats 1000000 in
theorem walkCodepointDecodes (w : World) (hT : Tabs w) (a : ByteArray) (h : a.size ≤ maxLen) :
    Calls Tryd.prog 3 #[.string a] w fun e w' => e = .returned (.bool true) ∧ Below w.heap.size w w' := by
  unfold maxLen at h
  have HT := Lib.hid hT
  clear hT
  by_cases ha : a.size ≤ 2000
  · by_cases hv : stop a 0 = a.size
    · have hl := ints32_len a
      have HR : Hid (∀ w, Calls Tryd.prog 16 #[.string a] w (RefPost (-1) (ints32 (scalars a 0)) w)) := fun w => by
        have h := ref_rd a w (by omega)
        rw [badAt_ok a hv] at h; exact h
      have HC : Hid (∀ w, Calls Tryd.prog 17 #[.string a] w fun e w' => e = .returned (.tuple #[.int .i64 (-1), .int .i64 0]) ∧ Below w.heap.size w w') := fun w => chk_ok a w (by omega) hv
      have HD : Hid (∀ w, Calls Tryd.prog 18 #[.string a] w (DecPost a (ints32 (scalars a 0)).length (ints32 (scalars a 0)) w)) := fun w => decode_rd a w (by omega) hv
      clear hv
      generalize ints32 (scalars a 0) = xs at *
      have HI := Lib.hid (fun a1 a2 cap cap' w hx hy => is_same xs (by omega) a1 a2 cap cap' w hx hy)
      have HL := Lib.hid hl
      clear hl
      go_enter Tryd.func3, Tryd.ntmps3
      go_wp2_with fail
      refine (awake1_any _ HT.out).mono ?_
      rintro e w0 ⟨rfl, hb0⟩
      go_wp2_with fail
      refine (HR.out _).mono ?_
      rintro e w1 ⟨a1, cap1, rfl, hr1, hb1⟩
      have hbw1 : Hid (Below w.heap.size w w1) := below2 hb0 hb1
      have hR1 := Lib.hid hr1
      clear hb0 hb1 hr1
      go_wp2_with fail
      refine (HC.out _).mono ?_
      rintro e w2 ⟨rfl, hb2⟩
      have hbw2 : Hid (Below w.heap.size w w2) := below2 hbw1.out hb2
      have hR2 := Lib.hid (hR1.out.below hb2)
      clear hbw1 hb2 hR1
      go_wp2_with fail
      refine (HD.out _).mono ?_
      rintro e w3 ⟨a3, cap3, rfl, hr3, hb3⟩
      have hbw3 : Hid (Below w.heap.size w w3) := below2 hbw2.out hb3
      have hR3 := Lib.hid (hR2.out.below hb3)
      have hR4 := Lib.hid hr3
      clear hbw2 hb3 hR2 hr3
      go_wp2_with fail
      refine (HI.out _ _ _ _ _ hR4.out hR3.out).mono ?_
      rintro e w4 ⟨rfl, hb4⟩
      have hbw4 : Hid (Below w.heap.size w w4) := below2 hbw3.out hb4
      clear hbw3 hb4
      go_wp2_with fail
      go_ret
      exact ⟨rfl, hbw4.out⟩
    · have hl := ints32_len a
      have HR : Hid (∀ w, Calls Tryd.prog 16 #[.string a] w (RefPost ((stop a 0 : Nat) : Int) (ints32 (scalars a 0)) w)) := fun w => by
        have h := ref_rd a w (by omega)
        rw [badAt_no a hv] at h; exact h
      have HC : Hid (∀ w, Calls Tryd.prog 17 #[.string a] w fun e w' => e = .returned (.tuple #[.int .i64 ((stop a 0 : Nat) : Int), .int .i64 11]) ∧ Below w.heap.size w w') := fun w => chk_no a w (by omega) _ rfl hv
      have HD : Hid (∀ w, Calls Tryd.prog 18 #[.string a] w fun e w' => e = .returned (.tuple #[.slice none 0 0, .int .i64 11]) ∧ Below w.heap.size w w') := fun w => decode_no a w (by omega) hv
      clear hv
      generalize ints32 (scalars a 0) = xs at *
      generalize stop a 0 = k at *
      generalize xs.length = n at *
      have HL := Lib.hid hl
      clear hl
      go_enter Tryd.func3, Tryd.ntmps3
      go_wp2_with fail
      refine (awake1_any _ HT.out).mono ?_
      rintro e w0 ⟨rfl, hb0⟩
      go_wp2_with fail
      refine (HR.out _).mono ?_
      rintro e w1 ⟨a1, cap1, rfl, _, hb1⟩
      have hbw1 : Hid (Below w.heap.size w w1) := below2 hb0 hb1
      clear hb0 hb1
      go_wp2_with fail
      refine (HC.out _).mono ?_
      rintro e w2 ⟨rfl, hb2⟩
      have hbw2 : Hid (Below w.heap.size w w2) := below2 hbw1.out hb2
      clear hbw1 hb2
      go_wp2_with fail
      refine (HD.out _).mono ?_
      rintro e w3 ⟨rfl, hb3⟩
      have hbw3 : Hid (Below w.heap.size w w3) := below2 hbw2.out hb3
      clear hbw2 hb3
      go_wp2_with fail
      go_ret
      exact ⟨rfl, hbw3.out⟩
  · go_enter Tryd.func3, Tryd.ntmps3
    go_wp2_with fail
    refine (awake1_any _ HT.out).mono ?_
    rintro e w0 ⟨rfl, hb0⟩
    go_wp2_with fail
    go_ret
    exact ⟨rfl, hb0⟩
end Go.Proofs.YtmoljdgalonlpaaDoor
