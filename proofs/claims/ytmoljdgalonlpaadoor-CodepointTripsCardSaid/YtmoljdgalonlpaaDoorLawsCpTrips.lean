/-
  Helper: the walk of CodepointTrips.
-/
import Derived.Test.YtmoljdgalonlpaaDoorTripPlain
import Derived.Test.YtmoljdgalonlpaaDoorLawsCpDecodes
import Derived.Test.YtmoljdgalonlpaaDoorRowIn
namespace Go.Proofs.YtmoljdgalonlpaaDoor
open Go.RowKit
set_option linter.unusedVariables false

theorem enc_yes (xs : List Int) (S : ByteArray) (hS : (⟨(encB xs).toArray⟩ : ByteArray) = S) (a : Option Addr) (cap : Nat) (w : World) (hr : Rr w a xs) (hs : xs.length ≤ 1000000) (hv : allV xs) : Calls Tryd.prog 20 #[.slice a xs.length cap] w fun e w' => e = .returned (.tuple #[.string S, .int .i64 0]) ∧ Below w.heap.size w w' := by
  refine (encode_any xs a cap w hr hs).mono fun e w' h => ?_
  have h2 := h.1 hv
  unfold EncOk at h2
  rw [hS] at h2; exact h2
theorem enc_no (xs : List Int) (a : Option Addr) (cap : Nat) (w : World) (hr : Rr w a xs) (hs : xs.length ≤ 1000000) (hv : ¬ allV xs) : Calls Tryd.prog 20 #[.slice a xs.length cap] w fun e w' => e = .returned (.tuple #[.string ⟨#[]⟩, .int .i64 11]) ∧ Below w.heap.size w w' :=
  (encode_any xs a cap w hr hs).mono fun e w' h => h.2 hv
theorem dec_back (xs : List Int) (S : ByteArray) (hS : (⟨(encB xs).toArray⟩ : ByteArray) = S) (w : World) (hs : xs.length ≤ 1000) (hv : allV xs) : Calls Tryd.prog 18 #[.string S] w (DecPost S xs.length xs w) := by
  obtain ⟨h1, h2⟩ := trip_l xs hv
  rw [hS] at h1 h2
  have hl := encB_len xs
  have hsz : S.size ≤ 1000000 := by rw [← hS]; show (encB xs).length ≤ _; omega
  have h := decode_rd S w hsz h2
  rw [h1] at h; exact h

set_option maxRecDepth 100000 in
set_option maxHeartbeats 1000000 in
theorem walkCodepointTrips (w : World) (hT : Tabs w) (a : ByteArray) (h : a.size ≤ maxLen) (b : Option Addr) (len cap : Nat) (z : List Int) (h' : IsRow .i32 w b len cap z) :
    Calls Tryd.prog 6 #[.string a, .slice b len cap] w fun e w' => e = .returned (.bool true) ∧ Below w.heap.size w w' := by
  obtain ⟨ys, hl, hr, hm, _⟩ := isrow_rr h'
  unfold maxLen at hm h
  subst hl
  have HT := Lib.hid hT
  have HR := Lib.hid hr
  clear hT h' hr
  by_cases ha : a.size ≤ 2000
  · by_cases hs : ys.length ≤ 500
    · by_cases hvl : allV ys
      · by_cases hv : stop a 0 = a.size
        · obtain ⟨U, hU⟩ : ∃ U : ByteArray, (⟨(encB ys).toArray⟩ : ByteArray) = U := ⟨_, rfl⟩
          have HEL := Lib.hid (fun w hr => enc_yes ys U hU b cap w hr (by omega) hvl)
          have HDL := Lib.hid (fun w => dec_back ys U hU w (by omega) hvl)
          have HIS := Lib.hid (fun a1 a2 c1 c2 w h1 h2 => is_same ys (by omega) a1 a2 c1 c2 w h1 h2)
          clear hU hvl
          have hla := ints32_len a
          have HDA : Hid (∀ w, Calls Tryd.prog 18 #[.string a] w (DecPost a (ints32 (scalars a 0)).length (ints32 (scalars a 0)) w)) := fun w => decode_rd a w (by omega) hv
          have HEA := Lib.hid (fun a1 cap w hr => enc_yes (ints32 (scalars a 0)) a (trip_s a hv).1 a1 cap w hr (by omega) (trip_s a hv).2)
          clear hv
          generalize ints32 (scalars a 0) = xs at *
          go_enter Tryd.func6, Tryd.ntmps6
          go_wp2_with fail
          refine (awake1_any _ HT.out).mono ?_
          rintro e w0 ⟨rfl, hb0⟩
          go_wp2_with fail
          refine (HDA.out _).mono ?_
          rintro e w1 ⟨a1, cap1, rfl, hr1, hb1⟩
          have hB1 : Hid (Below w.heap.size w w1) := below2 hb0 hb1
          have hR1 := Lib.hid hr1
          clear hb0 hb1 hr1 HT
          go_wp2_with fail
          refine (HEA.out _ _ _ hR1.out).mono ?_
          rintro e w2 ⟨rfl, hb2⟩
          have hB2 : Hid (Below w.heap.size w w2) := below2 hB1.out hb2
          have hL2 : Hid (Rr w2 b ys) := HR.out.below hB2.out
          clear hb2 hB1 hR1
          go_wp2_with fail
          refine (HEL.out _ hL2.out).mono ?_
          rintro e w5 ⟨rfl, hb5⟩
          have hB5 : Hid (Below w.heap.size w w5) := below2 hB2.out hb5
          have hRl := Lib.hid (hL2.out.below hb5)
          clear hb5
          go_wp2_with fail
          refine (HDL.out _).mono ?_
          rintro e w6 ⟨a6, cap6, rfl, hr6, hb6⟩
          have hB6 : Hid (Below w.heap.size w w6) := below2 hB5.out hb6
          have hRl2 := Lib.hid (hRl.out.below hb6)
          have hR6 := Lib.hid hr6
          clear hb6 hr6 hB5 hRl
          go_wp2_with fail
          refine (HIS.out _ _ _ _ _ hR6.out hRl2.out).mono ?_
          rintro e w7 ⟨rfl, hb7⟩
          have hB7 : Hid (Below w.heap.size w w7) := below2 hB6.out hb7
          clear hb7 hB6
          go_wp2_with fail
          go_ret
          exact ⟨rfl, hB7.out⟩
        · obtain ⟨U, hU⟩ : ∃ U : ByteArray, (⟨(encB ys).toArray⟩ : ByteArray) = U := ⟨_, rfl⟩
          have HEL := Lib.hid (fun w hr => enc_yes ys U hU b cap w hr (by omega) hvl)
          have HDL := Lib.hid (fun w => dec_back ys U hU w (by omega) hvl)
          have HIS := Lib.hid (fun a1 a2 c1 c2 w h1 h2 => is_same ys (by omega) a1 a2 c1 c2 w h1 h2)
          clear hU hvl
          have HDA : Hid (∀ w, Calls Tryd.prog 18 #[.string a] w fun e w' => e = .returned (.tuple #[.slice none 0 0, .int .i64 11]) ∧ Below w.heap.size w w') := fun w => decode_no a w (by omega) hv
          clear hv
          go_enter Tryd.func6, Tryd.ntmps6
          go_wp2_with fail
          refine (awake1_any _ HT.out).mono ?_
          rintro e w0 ⟨rfl, hb0⟩
          go_wp2_with fail
          refine (HDA.out _).mono ?_
          rintro e w2 ⟨rfl, hb1⟩
          have hB2 : Hid (Below w.heap.size w w2) := below2 hb0 hb1
          have hL2 : Hid (Rr w2 b ys) := HR.out.below hB2.out
          clear hb0 hb1 HT
          go_wp2_with fail
          refine (HEL.out _ hL2.out).mono ?_
          rintro e w5 ⟨rfl, hb5⟩
          have hB5 : Hid (Below w.heap.size w w5) := below2 hB2.out hb5
          have hRl := Lib.hid (hL2.out.below hb5)
          clear hb5
          go_wp2_with fail
          refine (HDL.out _).mono ?_
          rintro e w6 ⟨a6, cap6, rfl, hr6, hb6⟩
          have hB6 : Hid (Below w.heap.size w w6) := below2 hB5.out hb6
          have hRl2 := Lib.hid (hRl.out.below hb6)
          have hR6 := Lib.hid hr6
          clear hb6 hr6 hB5 hRl
          go_wp2_with fail
          refine (HIS.out _ _ _ _ _ hR6.out hRl2.out).mono ?_
          rintro e w7 ⟨rfl, hb7⟩
          have hB7 : Hid (Below w.heap.size w w7) := below2 hB6.out hb7
          clear hb7 hB6
          go_wp2_with fail
          go_ret
          exact ⟨rfl, hB7.out⟩
      · by_cases hv : stop a 0 = a.size
        · have HEL := Lib.hid (fun w hr => enc_no ys b cap w hr (by omega) hvl)
          clear hvl
          have hla := ints32_len a
          have HDA : Hid (∀ w, Calls Tryd.prog 18 #[.string a] w (DecPost a (ints32 (scalars a 0)).length (ints32 (scalars a 0)) w)) := fun w => decode_rd a w (by omega) hv
          have HEA := Lib.hid (fun a1 cap w hr => enc_yes (ints32 (scalars a 0)) a (trip_s a hv).1 a1 cap w hr (by omega) (trip_s a hv).2)
          clear hv
          generalize ints32 (scalars a 0) = xs at *
          go_enter Tryd.func6, Tryd.ntmps6
          go_wp2_with fail
          refine (awake1_any _ HT.out).mono ?_
          rintro e w0 ⟨rfl, hb0⟩
          go_wp2_with fail
          refine (HDA.out _).mono ?_
          rintro e w1 ⟨a1, cap1, rfl, hr1, hb1⟩
          have hB1 : Hid (Below w.heap.size w w1) := below2 hb0 hb1
          have hR1 := Lib.hid hr1
          clear hb0 hb1 hr1 HT
          go_wp2_with fail
          refine (HEA.out _ _ _ hR1.out).mono ?_
          rintro e w2 ⟨rfl, hb2⟩
          have hB2 : Hid (Below w.heap.size w w2) := below2 hB1.out hb2
          have hL2 : Hid (Rr w2 b ys) := HR.out.below hB2.out
          clear hb2 hB1 hR1
          go_wp2_with fail
          refine (HEL.out _ hL2.out).mono ?_
          rintro e w5 ⟨rfl, hb5⟩
          have hB5 : Hid (Below w.heap.size w w5) := below2 hB2.out hb5
          clear hb5
          go_wp2_with fail
          go_ret
          exact ⟨rfl, hB5.out⟩
        · have HEL := Lib.hid (fun w hr => enc_no ys b cap w hr (by omega) hvl)
          clear hvl
          have HDA : Hid (∀ w, Calls Tryd.prog 18 #[.string a] w fun e w' => e = .returned (.tuple #[.slice none 0 0, .int .i64 11]) ∧ Below w.heap.size w w') := fun w => decode_no a w (by omega) hv
          clear hv
          go_enter Tryd.func6, Tryd.ntmps6
          go_wp2_with fail
          refine (awake1_any _ HT.out).mono ?_
          rintro e w0 ⟨rfl, hb0⟩
          go_wp2_with fail
          refine (HDA.out _).mono ?_
          rintro e w2 ⟨rfl, hb1⟩
          have hB2 : Hid (Below w.heap.size w w2) := below2 hb0 hb1
          have hL2 : Hid (Rr w2 b ys) := HR.out.below hB2.out
          clear hb0 hb1 HT
          go_wp2_with fail
          refine (HEL.out _ hL2.out).mono ?_
          rintro e w5 ⟨rfl, hb5⟩
          have hB5 : Hid (Below w.heap.size w w5) := below2 hB2.out hb5
          clear hb5
          go_wp2_with fail
          go_ret
          exact ⟨rfl, hB5.out⟩
    · go_enter Tryd.func6, Tryd.ntmps6
      go_wp2_with fail
      refine (awake1_any _ HT.out).mono ?_
      rintro e w0 ⟨rfl, hb0⟩
      go_wp2_with fail
      go_ret
      exact ⟨rfl, hb0⟩
  · go_enter Tryd.func6, Tryd.ntmps6
    go_wp2_with fail
    refine (awake1_any _ HT.out).mono ?_
    rintro e w0 ⟨rfl, hb0⟩
    go_wp2_with fail
    go_ret
    exact ⟨rfl, hb0⟩
end Go.Proofs.YtmoljdgalonlpaaDoor
