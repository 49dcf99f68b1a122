/-
  Helper: the walk of CodepointEncodes.
-/
import Derived.Test.YtmoljdgalonlpaaDoorRefEnc
import Derived.Test.YtmoljdgalonlpaaDoorRowIn
import Derived.Test.YtmoljdgalonlpaaDoorCpAwake
import Derived.Lib.Hide
namespace Go.Proofs.YtmoljdgalonlpaaDoor
open Go.RowKit
set_option linter.unusedVariables false

theorem bytes_app (x y : List UInt8) : (⟨x.toArray⟩ : ByteArray) ++ ⟨y.toArray⟩ = ⟨(x ++ y).toArray⟩ := by
  apply ByteArray.ext
  rw [ByteArray.data_append]
  simp
theorem bytes_size (x : List UInt8) : (⟨x.toArray⟩ : ByteArray).size = x.length := rfl

set_option maxRecDepth 100000 in
set_option maxHeartbeats 1000000 in
theorem walkCodepointEncodes (w : World) (hT : Tabs w) (a : Option Addr) (len cap : Nat) (z : List Int) (h : IsRow .i32 w a len cap z) :
    Calls Tryd.prog 4 #[.slice a len cap] w fun e w' => e = .returned (.bool true) ∧ Below w.heap.size w w' := by
  obtain ⟨xs, hl, hr, hm, _⟩ := isrow_rr h
  unfold maxLen at hm
  subst hl
  have HT := Lib.hid hT
  have HR := Lib.hid hr
  clear hT h hr
  by_cases hs : xs.length ≤ 500
  · by_cases hv : allV xs
    · obtain ⟨S, hS⟩ : ∃ S : ByteArray, (⟨(encB xs).toArray⟩ : ByteArray) = S := ⟨_, rfl⟩
      have HEN : Hid (∀ w, Rr w a xs → Calls Tryd.prog 20 #[.slice a xs.length cap] w fun e w' => e = .returned (.tuple #[.string S, .int .i64 0]) ∧ Below w.heap.size w w') := fun w hr => (encode_any xs a cap w hr (by omega)).mono fun e w' h => by
        have h2 := h.1 hv
        unfold EncOk at h2
        rw [hS] at h2; exact h2
      have HV : Hid (∀ i, i < xs.length → Lib.validRune (xs.getD i 0) = true) := hv
      have HN : Hid ((⟨(encB (xs.take xs.length)).toArray⟩ : ByteArray) = S) := by rw [← hS, List.take_length]; rfl
      have HE := Lib.hid (fun k hk => encB_take xs k hk)
      have HL : Hid (∀ k, k ≤ xs.length → (encB (xs.take k)).length ≤ 4 * k) := fun k hk => by
        have := encB_len (xs.take k)
        rw [List.length_take] at this
        omega
      clear hv hS
      generalize hn : xs.length = n at *
      go_enter Tryd.func4, Tryd.ntmps4
      go_wp2_with fail
      refine (awake1_any _ HT.out).mono ?_
      rintro e w0 ⟨rfl, hb0⟩
      go_wp2_with fail
      have hR0 := Lib.hid (HR.out.below hb0)
      refine (HEN.out _ hR0.out).mono ?_
      rintro e w1 ⟨rfl, hb1⟩
      have hB1 : Hid (Below w.heap.size w w1) := hb0.trans (hb1.mono hb0.size)
      have HX := Lib.hid (fun i hi => (hR0.out.below hb1).at i hi)
      clear hb0 hb1 hR0 HR HT
      go_wp2_with fail
      go_loopw [5, 6] (fun s c wr => ∃ (k : Nat) (u : ByteArray), k ≤ n ∧ s = .string u ∧ u.size ≤ 4 * k ∧ c = .int .i64 k ∧ Below w1.heap.size w1 wr ∧ Hid (u = ⟨(encB (xs.take k)).toArray⟩)) (fun _ c _ => n - (intOf c).toNat)
      case atStart => exact ⟨0, ⟨#[]⟩, Nat.zero_le _, rfl, Nat.le_refl _, rfl, Below.refl _ _, rfl⟩
      case round =>
        obtain ⟨k, u, hk, rfl, hul, rfl, hbel, huv⟩ := hrel
        by_cases hlt : k < n
        · obtain ⟨o, off, rfl, ho, hc1⟩ := HX.out k (by omega)
          have c1 := hbel.cell (p := ⟨o, off + k, none⟩) ho
          rw [hc1] at c1
          have hkn : (k : Int) < (n : Int) := by omega
          clear hc1
          have hvx := HV.out k hlt
          have hstep := Lib.hid (HE.out k hlt).symm
          generalize xs.getD k 0 = x at *
          clear HE HL HN HV
          have HS := Lib.hid (fun w => scalar_any x w)
          have hstep2 : Hid (u ++ ⟨(Lib.encodeRune x).toArray⟩ = ⟨(encB (xs.take (k + 1))).toArray⟩) := Lib.hid (by rw [huv.out, bytes_app, hstep.out])
          have htl : (⟨(Lib.encodeRune x).toArray⟩ : ByteArray).size ≤ 4 := encB_one x
          have hul2 : (u ++ (⟨(Lib.encodeRune x).toArray⟩ : ByteArray)).size ≤ 4 * (k + 1) := by
            rw [ByteArray.size_append]; omega
          have HRE := Lib.hid (fun w => refEncode_any x w hvx)
          rw [hvx] at HS
          clear hstep huv
          generalize (⟨(Lib.encodeRune x).toArray⟩ : ByteArray) = tt at *
          go_wp2_with fail
          refine (HS.out _).mono ?_
          rintro e w2 ⟨rfl, hb2⟩
          have hbel2 : Below w1.heap.size w1 w2 := hbel.trans (hb2.mono hbel.size)
          have c2 := hb2.cell (p := ⟨o, off + k, none⟩) (Nat.lt_of_lt_of_le ho hbel.size)
          rw [c1] at c2
          clear c1 hb2 hbel
          go_wp2_with fail
          refine (HRE.out _).mono ?_
          rintro e w3 ⟨rfl, hb3⟩
          have hbel3 : Below w1.heap.size w1 w3 := hbel2.trans (hb3.mono hbel2.size)
          clear hb3 hbel2
          go_wp2_with fail
          exact ⟨⟨k + 1, u ++ tt, by omega, rfl, hul2, by go_num, hbel3, hstep2⟩, by simp [intOf]; omega⟩
        · obtain rfl : k = n := by omega
          obtain rfl : u = S := by rw [huv.out]; exact HN.out
          clear HE HL HN HV huv
          go_wp2_with fail
          go_ret
          exact ⟨rfl, hB1.out.trans (hbel.mono hB1.out.size)⟩
    · have HEN : Hid (∀ w, Rr w a xs → Calls Tryd.prog 20 #[.slice a xs.length cap] w fun e w' => e = .returned (.tuple #[.string ⟨#[]⟩, .int .i64 11]) ∧ Below w.heap.size w w') := fun w hr => (encode_any xs a cap w hr (by omega)).mono fun e w' h => h.2 hv
      have HV : Hid (¬ ∀ i, i < xs.length → Lib.validRune (xs.getD i 0) = true) := hv
      have HE := Lib.hid (fun k hk => encB_take xs k hk)
      have HL : Hid (∀ k, k ≤ xs.length → (encB (xs.take k)).length ≤ 4 * k) := fun k hk => by
        have := encB_len (xs.take k)
        rw [List.length_take] at this
        omega
      clear hv
      generalize hn : xs.length = n at *
      go_enter Tryd.func4, Tryd.ntmps4
      go_wp2_with fail
      refine (awake1_any _ HT.out).mono ?_
      rintro e w0 ⟨rfl, hb0⟩
      go_wp2_with fail
      have hR0 := Lib.hid (HR.out.below hb0)
      refine (HEN.out _ hR0.out).mono ?_
      rintro e w1 ⟨rfl, hb1⟩
      have hB1 : Hid (Below w.heap.size w w1) := hb0.trans (hb1.mono hb0.size)
      have HX := Lib.hid (fun i hi => (hR0.out.below hb1).at i hi)
      clear hb0 hb1 hR0 HR HT
      go_wp2_with fail
      go_loopw [5, 6] (fun s c wr => ∃ (k : Nat) (u : ByteArray), k ≤ n ∧ s = .string u ∧ u.size ≤ 4 * k ∧ c = .int .i64 k ∧ Below w1.heap.size w1 wr ∧ Hid (u = ⟨(encB (xs.take k)).toArray⟩) ∧ Hid (∀ i, i < k → Lib.validRune (xs.getD i 0) = true)) (fun _ c _ => n - (intOf c).toNat)
      case atStart => exact ⟨0, ⟨#[]⟩, Nat.zero_le _, rfl, Nat.le_refl _, rfl, Below.refl _ _, rfl, fun i hi => absurd hi (Nat.not_lt_zero _)⟩
      case round =>
        obtain ⟨k, u, hk, rfl, hul, rfl, hbel, huv, HO⟩ := hrel
        by_cases hlt : k < n
        · obtain ⟨o, off, rfl, ho, hc1⟩ := HX.out k (by omega)
          have c1 := hbel.cell (p := ⟨o, off + k, none⟩) ho
          rw [hc1] at c1
          have hkn : (k : Int) < (n : Int) := by omega
          clear hc1
          by_cases hvx : Lib.validRune (xs.getD k 0) = true
          · have hstep := Lib.hid (HE.out k hlt).symm
            have HO2 : Hid (∀ i, i < k + 1 → Lib.validRune (xs.getD i 0) = true) := fun i hi => by
              by_cases g : i = k
              · rw [g]; exact hvx
              · exact HO.out i (by omega)
            clear HE HL HV HO
            generalize xs.getD k 0 = x at *
            have HS := Lib.hid (fun w => scalar_any x w)
            have hstep2 : Hid (u ++ ⟨(Lib.encodeRune x).toArray⟩ = ⟨(encB (xs.take (k + 1))).toArray⟩) := Lib.hid (by rw [huv.out, bytes_app, hstep.out])
            have htl : (⟨(Lib.encodeRune x).toArray⟩ : ByteArray).size ≤ 4 := encB_one x
            have hul2 : (u ++ (⟨(Lib.encodeRune x).toArray⟩ : ByteArray)).size ≤ 4 * (k + 1) := by
              rw [ByteArray.size_append]; omega
            have HRE := Lib.hid (fun w => refEncode_any x w hvx)
            rw [hvx] at HS
            clear hstep huv
            generalize (⟨(Lib.encodeRune x).toArray⟩ : ByteArray) = tt at *
            go_wp2_with fail
            refine (HS.out _).mono ?_
            rintro e w2 ⟨rfl, hb2⟩
            have hbel2 : Below w1.heap.size w1 w2 := hbel.trans (hb2.mono hbel.size)
            have c2 := hb2.cell (p := ⟨o, off + k, none⟩) (Nat.lt_of_lt_of_le ho hbel.size)
            rw [c1] at c2
            clear c1 hb2 hbel
            go_wp2_with fail
            refine (HRE.out _).mono ?_
            rintro e w3 ⟨rfl, hb3⟩
            have hbel3 : Below w1.heap.size w1 w3 := hbel2.trans (hb3.mono hbel2.size)
            clear hb3 hbel2
            go_wp2_with fail
            exact ⟨⟨k + 1, u ++ tt, by omega, rfl, hul2, by go_num, hbel3, hstep2, HO2⟩, by simp [intOf]; omega⟩
          · have hvf : Lib.validRune (xs.getD k 0) = false := by simpa using hvx
            have HS := Lib.hid (fun w => scalar_any (xs.getD k 0) w)
            rw [hvf] at HS
            clear HE HL HV HO hvx hvf huv
            generalize xs.getD k 0 = x at *
            go_wp2_with fail
            refine (HS.out _).mono ?_
            rintro e w2 ⟨rfl, hb2⟩
            have hbel2 : Below w1.heap.size w1 w2 := hbel.trans (hb2.mono hbel.size)
            clear c1 hb2 hbel
            go_wp2_with fail
            go_ret
            exact ⟨rfl, hB1.out.trans (hbel2.mono hB1.out.size)⟩
        · obtain rfl : k = n := by omega
          exact absurd HO.out HV.out
  · go_enter Tryd.func4, Tryd.ntmps4
    go_wp2_with fail
    refine (awake1_any _ HT.out).mono ?_
    rintro e w0 ⟨rfl, hb0⟩
    go_wp2_with fail
    go_ret
    exact ⟨rfl, hb0⟩
end Go.Proofs.YtmoljdgalonlpaaDoor
