/-
  Helper: the walks of the laws of package rosettalaw02: each returns true, whatever the input.
-/
import Derived.Test.YtmoljdgalonlpaaDoorPosAwake
import Derived.Test.YtmoljdgalonlpaaDoorPosRef
namespace Go.Proofs.YtmoljdgalonlpaaDoor
open Go.RowKit
set_option linter.unusedVariables false

set_option maxHeartbeats 400000 in
theorem walkPositionIndents (w : World) (a : ByteArray) (h : a.size ≤ maxLen) :
    Calls Tryd.prog 14 #[.string a] w fun e w' => e = .returned (.bool true) ∧ Below w.heap.size w w' := by
  have h1 := Lib.hid (indent_any a w h)
  have h2 := Lib.hid (rindent_any a w h)
  generalize (a.size : Int) - ((Lib.trimLeftB a.data.toList 32).length : Nat) = x at *
  generalize Lib.hasPrefix (Lib.trimLeftB a.data.toList 32) [9] = t at *
  go_enter Tryd.func14, Tryd.ntmps14
  go_wp2_with fail
  refine h1.out.mono ?_
  rintro e w1 ⟨rfl, rfl⟩
  go_wp2_with fail
  refine h2.out.mono ?_
  rintro e w1 ⟨rfl, rfl⟩
  go_wp2_with fail
  refine (awake_any _).mono ?_
  rintro e w1 ⟨rfl, hb⟩
  go_wp2_with fail
  go_ret
  exact ⟨by cases t <;> simp, hb⟩

/-- beyond the statement's size: the examples alone are asked -/
theorem big (a : ByteArray) (h : ¬ a.size ≤ 2000) : (2000 : Int) < a.size := by omega

set_option maxHeartbeats 1000000 in
theorem walkPositionFinds (w : World) (a : ByteArray) (h : a.size ≤ maxLen) (o : Int) (ho : (Lit.int .i64 o).wf = true) :
    Calls Tryd.prog 10 #[.string a, .int .i64 o] w fun e w' => e = .returned (.bool true) ∧ Below w.heap.size w w' := by
  unfold maxLen at h
  by_cases hbig : a.size ≤ 2000
  · have key : ∃ x y z : Int, (∀ w a' cap, Rd w a' (nln a) (nlf a) → Calls Tryd.prog 29 #[.agg #[.string a, .slice a' (nln a) cap], .int .i64 o] w fun e w' => e = .returned (.tuple #[.int .i64 x, .int .i64 y, .int .i64 z]) ∧ Below w.heap.size w w') ∧
        (∀ w, Calls Tryd.prog 30 #[.string a, .int .i64 o] w fun e w' => e = .returned (.tuple #[.int .i64 x, .int .i64 y, .int .i64 z]) ∧ w = w') := by
      by_cases hin : 0 ≤ o ∧ o ≤ a.size
      · obtain ⟨k, rfl⟩ := Int.eq_ofNat_of_zero_le hin.1
        exact ⟨_, _, _, fun w a' cap hr => at_some a a' cap w (by omega) hr k (by omega), fun w => rat_some a k w (by omega) (by omega)⟩
      · exact ⟨_, _, _, fun w a' cap hr => at_none a a' (nln a) cap w (by omega) o (by omega), fun w => rat_none a o w (by omega) (by omega)⟩
    obtain ⟨x, y, z, hp, hr⟩ := key
    have HP := Lib.hid hp
    have HR := Lib.hid hr
    have HC := Lib.hid (fun w => rcount_any a w (by omega))
    have hnl := nln_le a
    clear hp hr
    go_enter Tryd.func10, Tryd.ntmps10
    go_wp2_with fail
    refine (of_rd a _ (by omega)).mono ?_
    rintro e w1 ⟨a', cap, rfl, hrd, hb1⟩
    go_wp2_with fail
    have hB := Bx.new (cap := cap) (t := 51) hrd
    refine (HP.out _ a' cap hB.rd).mono ?_
    rintro e w2 ⟨rfl, h2⟩
    obtain ⟨c0, c1, HK⟩ := hB.keep h2
    have HK2 := Lib.hid HK
    clear HK hB h2
    go_wp2_with fail
    refine (HR.out _).mono ?_
    rintro e w3 ⟨rfl, rfl⟩
    go_wp2_with fail
    refine (awake_any _).mono ?_
    rintro e w3 ⟨rfl, h3⟩
    have hB : Bx w1 w1.heap.size a a' cap w2 := ⟨c0, c1, HK2.out⟩
    clear c0 c1 HK2
    obtain ⟨c0, c1, HK⟩ := hB.keep h3
    have HK2 := Lib.hid HK
    clear HK hB h3
    go_wp2_with fail
    refine (count_any a a' (nln a) cap _ (by omega)).mono ?_
    rintro e w4 ⟨rfl, h4⟩
    go_wp2_with fail
    refine (HC.out _).mono ?_
    rintro e w5 ⟨rfl, rfl⟩
    go_wp2_with fail
    go_ret
    refine ⟨by simp, hb1.trans ?_⟩
    have hb5 : Below w1.heap.size w1 w3 := HK2.out.2.1
    refine (hb5.mono hb1.size).trans (h4.mono ?_)
    have := hb5.size
    have := hb1.size
    omega
  · have hgt := big a hbig
    go_enter Tryd.func10, Tryd.ntmps10
    go_wp2_with fail
    refine (awake_any _).mono ?_
    rintro e w1 ⟨rfl, hb⟩
    go_wp2_with fail
    go_ret
    exact ⟨rfl, hb⟩

set_option maxHeartbeats 1000000 in
theorem walkPositionReturns (w : World) (a : ByteArray) (h : a.size ≤ maxLen) (i : Int) (hi : (Lit.int .i64 i).wf = true) (c : Int) (hcw : (Lit.int .i64 c).wf = true) :
    Calls Tryd.prog 11 #[.string a, .int .i64 i, .int .i64 c] w fun e w' => e = .returned (.bool true) ∧ Below w.heap.size w w' := by
  unfold maxLen at h
  have hi9 : i ≤ 9223372036854775807 := by simp [Lit.wf, IntKind.min, IntKind.max, IntKind.signed, IntKind.bits] at hi; omega
  clear hi hcw
  by_cases hbig : a.size ≤ 2000
  · have key : ∃ (x y z : Int) (t : ByteArray), (∀ w a' cap, Rd w a' (nln a) (nlf a) → Calls Tryd.prog 33 #[.agg #[.string a, .slice a' (nln a) cap], .int .i64 i, .int .i64 c] w fun e w' => e = .returned (.tuple #[.int .i64 x, .int .i64 y]) ∧ Below w.heap.size w w') ∧
        (∀ w, Calls Tryd.prog 34 #[.string a, .int .i64 i, .int .i64 c] w fun e w' => e = .returned (.tuple #[.int .i64 x, .int .i64 y]) ∧ w = w') ∧
        (∀ w a' cap, Rd w a' (nln a) (nlf a) → Calls Tryd.prog 35 #[.agg #[.string a, .slice a' (nln a) cap], .int .i64 i] w fun e w' => e = .returned (.tuple #[.string t, .int .i64 z]) ∧ Below w.heap.size w w') ∧
        (∀ w, Calls Tryd.prog 36 #[.string a, .int .i64 i] w fun e w' => e = .returned (.tuple #[.string t, .int .i64 z]) ∧ w = w') := by
      by_cases hin : 0 ≤ i ∧ i ≤ nln a
      · obtain ⟨k, rfl⟩ := Int.eq_ofNat_of_zero_le hin.1
        have hk : k ≤ nln a := by omega
        have hl := fun w a' cap hr => line_some a a' cap w (by omega) hr k hk
        rw [lineL_rfin a k hk] at hl
        by_cases hcc : 0 ≤ c ∧ c ≤ (finS a k : Int) - begS a k
        · refine ⟨(begS a k : Int) + c, 0, 0, ⟨((a.data.toList.drop (begS a k)).take (rfin a k - begS a k)).toArray⟩, fun w a' cap hr => ?_, fun w => ?_, hl, fun w => rline_some a k w (by omega) hk⟩
          · have := offset_some a a' cap w (by omega) hr k hk c; rw [if_pos hcc] at this; exact this
          · have := roffset_some a k c w (by omega) hk; rw [if_pos hcc] at this; exact this
        · refine ⟨0, 2, 0, ⟨((a.data.toList.drop (begS a k)).take (rfin a k - begS a k)).toArray⟩, fun w a' cap hr => ?_, fun w => ?_, hl, fun w => rline_some a k w (by omega) hk⟩
          · have := offset_some a a' cap w (by omega) hr k hk c; rw [if_neg hcc] at this; exact this
          · have := roffset_some a k c w (by omega) hk; rw [if_neg hcc] at this; exact this
      · exact ⟨0, 9, 9, ⟨#[]⟩, fun w a' cap hr => offset_none a a' cap w (by omega) i c (by omega), fun w => roffset_none a i c w (by omega) (by omega) hi9, fun w a' cap hr => line_none a a' cap w (by omega) i (by omega), fun w => rline_none a i w (by omega) (by omega) hi9⟩
    obtain ⟨x, y, z, t, hp, hr, hlp, hlr⟩ := key
    have HP := Lib.hid hp
    have HR := Lib.hid hr
    have HLP := Lib.hid hlp
    have HLR := Lib.hid hlr
    clear hp hr hlp hlr
    go_enter Tryd.func11, Tryd.ntmps11
    go_wp2_with fail
    refine (of_rd a _ (by omega)).mono ?_
    rintro e w1 ⟨a', cap, rfl, hrd, hb1⟩
    go_wp2_with fail
    have hB := Bx.new (cap := cap) (t := 51) hrd
    refine (HP.out _ a' cap hB.rd).mono ?_
    rintro e w2 ⟨rfl, h2⟩
    obtain ⟨c0, c1, HK⟩ := hB.keep h2
    have HK2 := Lib.hid HK
    clear HK hB h2
    go_wp2_with fail
    refine (HR.out _).mono ?_
    rintro e w3 ⟨rfl, rfl⟩
    go_wp2_with fail
    have hB : Bx w1 w1.heap.size a a' cap w2 := ⟨c0, c1, HK2.out⟩
    clear c0 c1 HK2
    refine (HLP.out _ a' cap hB.rd).mono ?_
    rintro e w3 ⟨rfl, h3⟩
    obtain ⟨c0, c1, HK⟩ := hB.keep h3
    have HK2 := Lib.hid HK
    clear HK hB h3
    go_wp2_with fail
    refine (HLR.out _).mono ?_
    rintro e w4 ⟨rfl, rfl⟩
    go_wp2_with fail
    refine (awake_any _).mono ?_
    rintro e w4 ⟨rfl, h4⟩
    go_wp2_with fail
    go_ret
    refine ⟨by simp, hb1.trans ?_⟩
    have hb5 : Below w1.heap.size w1 w3 := HK2.out.2.1
    refine (hb5.mono hb1.size).trans (h4.mono ?_)
    have := hb5.size
    have := hb1.size
    omega
  · have hgt := big a hbig
    go_enter Tryd.func11, Tryd.ntmps11
    go_wp2_with fail
    refine (awake_any _).mono ?_
    rintro e w1 ⟨rfl, hb⟩
    go_wp2_with fail
    go_ret
    exact ⟨rfl, hb⟩
end Go.Proofs.YtmoljdgalonlpaaDoor
