/-
  Helper: the walks of the statements ArmorHex, ArmorUnhexes, ArmorBase, ArmorUnbases, ArmorLengths.
-/
import Derived.Test.YtaapmndfefjdcaaDoorArAwake
namespace Go.Proofs.YtaapmndfefjdcaaDoor
open Go.RowKit
set_option linter.unusedVariables false

theorem bt {w a b : World} (h : Hid (Below w.heap.size w a)) (h2 : Below a.heap.size a b) : Hid (Below w.heap.size w b) := h.out.trans (h2.mono h.out.size)
theorem ba_eta (s : ByteArray) : (⟨s.data.toList.toArray⟩ : ByteArray) = s := by
  obtain ⟨⟨l⟩⟩ := s
  rfl
set_option maxRecDepth 100000 in
set_option maxHeartbeats 4000000 in
theorem walkArmorHex (w : World) (a : ByteArray) (h : a.size ≤ maxLen) : Calls Tryd.prog 3 #[.string a] w fun e w' => e = .returned (.bool true) ∧ Below w.heap.size w w' := by
  unfold maxLen at h
  have HA := Lib.hid awake_any
  by_cases hs : a.size ≤ 1000
  · have hsz : (⟨(hexA a.data.toList).toArray⟩ : ByteArray).size ≤ 100000 := by
      have e1 : (⟨(hexA a.data.toList).toArray⟩ : ByteArray).size = (hexA a.data.toList).length := by simp [ByteArray.size]
      have e2 : a.data.toList.length = a.size := by simp
      rw [e1, hexA_len, e2]; omega
    have CH : Hid (∀ W, Calls Tryd.prog 12 #[.string a] W fun e w' => e = .returned (.string ⟨(hexA a.data.toList).toArray⟩) ∧ Below W.heap.size W w') := fun W => hex_any a W (by omega)
    have CR : Hid (∀ W, Calls Tryd.prog 13 #[.string a] W fun e w' => e = .returned (.string ⟨(hexA a.data.toList).toArray⟩) ∧ Below W.heap.size W w') := fun W => refHex_any a W (by omega)
    have CU : Hid (∀ W, Calls Tryd.prog 11 #[.string ⟨(hexA a.data.toList).toArray⟩] W fun e w' => e = .returned (.tuple #[.string a, .int .i64 0]) ∧ Below W.heap.size W w') := fun W => (unhex_any ⟨(hexA a.data.toList).toArray⟩ W hsz).mono fun e w' hu => by
      have h1 := hu.1 (hex_ok a.data.toList)
      have e : unhexA (⟨(hexA a.data.toList).toArray⟩ : ByteArray).data.toList = a.data.toList := unhex_hex _
      rw [e] at h1
      obtain ⟨h1, h2⟩ := h1
      rw [ba_eta] at h1
      exact ⟨h1, h2⟩
    generalize (⟨(hexA a.data.toList).toArray⟩ : ByteArray) = H at *
    clear hsz
    go_enter Tryd.func3, Tryd.ntmps3
    go_wp2_with fail
    refine (HA.out _).mono ?_
    rintro e w1 ⟨rfl, hb1⟩
    have hB0 : Hid (Below w.heap.size w w1) := hb1
    clear hb1
    go_wp2_with fail
    refine (CH.out _).mono ?_
    rintro e v0 ⟨rfl, hb⟩
    have hB1 := bt hB0 hb
    clear hb
    go_wp2_with fail
    refine (CU.out _).mono ?_
    rintro e v1 ⟨rfl, hb⟩
    have hB2 := bt hB1 hb
    clear hb
    go_wp2_with fail
    refine (CH.out _).mono ?_
    rintro e v2 ⟨rfl, hb⟩
    have hB3 := bt hB2 hb
    clear hb
    go_wp2_with fail
    refine (CR.out _).mono ?_
    rintro e v3 ⟨rfl, hb⟩
    have hB4 := bt hB3 hb
    clear hb
    go_wp2
    go_ret
    exact ⟨rfl, hB4.out⟩
  · go_enter Tryd.func3, Tryd.ntmps3
    go_wp2_with fail
    refine (HA.out _).mono ?_
    rintro e w1 ⟨rfl, hb1⟩
    have hB0 : Hid (Below w.heap.size w w1) := hb1
    clear hb1
    go_wp2
    go_ret
    exact ⟨rfl, hB0.out⟩
set_option maxRecDepth 100000 in
set_option maxHeartbeats 4000000 in
theorem walkArmorBase (w : World) (a : ByteArray) (h : a.size ≤ maxLen) : Calls Tryd.prog 5 #[.string a] w fun e w' => e = .returned (.bool true) ∧ Below w.heap.size w w' := by
  unfold maxLen at h
  have HA := Lib.hid awake_any
  by_cases hs : a.size ≤ 1000
  · have hsz : (⟨(b64A a.data.toList).toArray⟩ : ByteArray).size ≤ 100000 := by
      have e1 : (⟨(b64A a.data.toList).toArray⟩ : ByteArray).size = (b64A a.data.toList).length := by simp [ByteArray.size]
      have e2 : a.data.toList.length = a.size := by simp
      rw [e1, b64A_len, e2]; omega
    have CH : Hid (∀ W, Calls Tryd.prog 16 #[.string a] W fun e w' => e = .returned (.string ⟨(b64A a.data.toList).toArray⟩) ∧ Below W.heap.size W w') := fun W => b64_any a W (by omega)
    have CR : Hid (∀ W, Calls Tryd.prog 17 #[.string a] W fun e w' => e = .returned (.string ⟨(b64A a.data.toList).toArray⟩) ∧ Below W.heap.size W w') := fun W => refB64_any a W (by omega)
    have CU : Hid (∀ W, Calls Tryd.prog 15 #[.string ⟨(b64A a.data.toList).toArray⟩] W fun e w' => e = .returned (.tuple #[.string a, .int .i64 0]) ∧ Below W.heap.size W w') := fun W => (unb_any ⟨(b64A a.data.toList).toArray⟩ W hsz).mono fun e w' hu => by
      have e : bytesOf (stream SX 6 (⟨(b64A a.data.toList).toArray⟩ : ByteArray).data.toList) = a.data.toList := unb_b64 _
      have h1 := hu.1 (by rw [e])
      rw [e] at h1
      obtain ⟨h1, h2⟩ := h1
      rw [ba_eta] at h1
      exact ⟨h1, h2⟩
    generalize (⟨(b64A a.data.toList).toArray⟩ : ByteArray) = H at *
    clear hsz
    go_enter Tryd.func5, Tryd.ntmps5
    go_wp2_with fail
    refine (HA.out _).mono ?_
    rintro e w1 ⟨rfl, hb1⟩
    have hB0 : Hid (Below w.heap.size w w1) := hb1
    clear hb1
    go_wp2_with fail
    refine (CH.out _).mono ?_
    rintro e v0 ⟨rfl, hb⟩
    have hB1 := bt hB0 hb
    clear hb
    go_wp2_with fail
    refine (CU.out _).mono ?_
    rintro e v1 ⟨rfl, hb⟩
    have hB2 := bt hB1 hb
    clear hb
    go_wp2_with fail
    refine (CH.out _).mono ?_
    rintro e v2 ⟨rfl, hb⟩
    have hB3 := bt hB2 hb
    clear hb
    go_wp2_with fail
    refine (CR.out _).mono ?_
    rintro e v3 ⟨rfl, hb⟩
    have hB4 := bt hB3 hb
    clear hb
    go_wp2
    go_ret
    exact ⟨rfl, hB4.out⟩
  · go_enter Tryd.func5, Tryd.ntmps5
    go_wp2_with fail
    refine (HA.out _).mono ?_
    rintro e w1 ⟨rfl, hb1⟩
    have hB0 : Hid (Below w.heap.size w w1) := hb1
    clear hb1
    go_wp2
    go_ret
    exact ⟨rfl, hB0.out⟩
set_option maxRecDepth 100000 in
set_option maxHeartbeats 4000000 in
theorem walkArmorUnhexes (w : World) (a : ByteArray) (h : a.size ≤ maxLen) : Calls Tryd.prog 4 #[.string a] w fun e w' => e = .returned (.bool true) ∧ Below w.heap.size w w' := by
  unfold maxLen at h
  have HA := Lib.hid awake_any
  by_cases hs : a.size ≤ 1000
  · skip
    by_cases hq : HexOk a.data.toList
    · have CH : Hid (∀ W, Calls Tryd.prog 11 #[.string a] W fun e w' => e = .returned (.tuple #[.string ⟨(unhexA a.data.toList).toArray⟩, .int .i64 0]) ∧ Below W.heap.size W w') := fun W => (unhex_any a W (by omega)).mono fun e w' hu => hu.1 hq
      have CR : Hid (∀ W, Calls Tryd.prog 14 #[.string a] W fun e w' => e = .returned (.tuple #[.string ⟨(unhexA a.data.toList).toArray⟩, .int .i64 0]) ∧ Below W.heap.size W w') := fun W => (refUnhex_yes a W (by omega) (refhex_yes _ hq)).mono fun e w' hu => by rw [unhex_stream _ hq] at hu; exact hu
      generalize (⟨(unhexA a.data.toList).toArray⟩ : ByteArray) = H at *
      clear hq
      go_enter Tryd.func4, Tryd.ntmps4
      go_wp2_with fail
      refine (HA.out _).mono ?_
      rintro e w1 ⟨rfl, hb1⟩
      have hB0 : Hid (Below w.heap.size w w1) := hb1
      clear hb1
      go_wp2_with fail
      refine (CH.out _).mono ?_
      rintro e v0 ⟨rfl, hb⟩
      have hB1 := bt hB0 hb
      clear hb
      go_wp2_with fail
      refine (CR.out _).mono ?_
      rintro e v1 ⟨rfl, hb⟩
      have hB2 := bt hB1 hb
      clear hb
      go_wp2
      go_ret
      exact ⟨rfl, hB2.out⟩
    · have CH : Hid (∀ W, Calls Tryd.prog 11 #[.string a] W fun e w' => e = .returned (.tuple #[.string ⟨#[]⟩, .int .i64 3]) ∧ Below W.heap.size W w') := fun W => (unhex_any a W (by omega)).mono fun e w' hu => hu.2 hq
      have CR : Hid (∀ W, Calls Tryd.prog 14 #[.string a] W fun e w' => e = .returned (.tuple #[.string ⟨#[]⟩, .int .i64 3]) ∧ Below W.heap.size W w') := fun W => (refUnhex_no a W (by omega) (refhex_no _ hq))
      clear hq
      go_enter Tryd.func4, Tryd.ntmps4
      go_wp2_with fail
      refine (HA.out _).mono ?_
      rintro e w1 ⟨rfl, hb1⟩
      have hB0 : Hid (Below w.heap.size w w1) := hb1
      clear hb1
      go_wp2_with fail
      refine (CH.out _).mono ?_
      rintro e v0 ⟨rfl, hb⟩
      have hB1 := bt hB0 hb
      clear hb
      go_wp2_with fail
      refine (CR.out _).mono ?_
      rintro e v1 ⟨rfl, hb⟩
      have hB2 := bt hB1 hb
      clear hb
      go_wp2
      go_ret
      exact ⟨rfl, hB2.out⟩
  · go_enter Tryd.func4, Tryd.ntmps4
    go_wp2_with fail
    refine (HA.out _).mono ?_
    rintro e w1 ⟨rfl, hb1⟩
    have hB0 : Hid (Below w.heap.size w w1) := hb1
    clear hb1
    go_wp2
    go_ret
    exact ⟨rfl, hB0.out⟩
set_option maxRecDepth 100000 in
set_option maxHeartbeats 4000000 in
theorem walkArmorUnbases (w : World) (a : ByteArray) (h : a.size ≤ maxLen) : Calls Tryd.prog 6 #[.string a] w fun e w' => e = .returned (.bool true) ∧ Below w.heap.size w w' := by
  unfold maxLen at h
  have HA := Lib.hid awake_any
  by_cases hs : a.size ≤ 1000
  · skip
    by_cases hq : b64A (bytesOf (stream SX 6 a.data.toList)) = a.data.toList
    · have CH : Hid (∀ W, Calls Tryd.prog 15 #[.string a] W fun e w' => e = .returned (.tuple #[.string ⟨(bytesOf (stream SX 6 a.data.toList)).toArray⟩, .int .i64 0]) ∧ Below W.heap.size W w') := fun W => (unb_any a W (by omega)).mono fun e w' hu => hu.1 hq
      have CR : Hid (∀ W, Calls Tryd.prog 18 #[.string a] W fun e w' => e = .returned (.tuple #[.string ⟨(bytesOf (stream SX 6 a.data.toList)).toArray⟩, .int .i64 0]) ∧ Below W.heap.size W w') := fun W => refUnbase64_yes a W (by omega) hq
      generalize (⟨(bytesOf (stream SX 6 a.data.toList)).toArray⟩ : ByteArray) = H at *
      clear hq
      go_enter Tryd.func6, Tryd.ntmps6
      go_wp2_with fail
      refine (HA.out _).mono ?_
      rintro e w1 ⟨rfl, hb1⟩
      have hB0 : Hid (Below w.heap.size w w1) := hb1
      clear hb1
      go_wp2_with fail
      refine (CH.out _).mono ?_
      rintro e v0 ⟨rfl, hb⟩
      have hB1 := bt hB0 hb
      clear hb
      go_wp2_with fail
      refine (CR.out _).mono ?_
      rintro e v1 ⟨rfl, hb⟩
      have hB2 := bt hB1 hb
      clear hb
      go_wp2
      go_ret
      exact ⟨rfl, hB2.out⟩
    · have CH : Hid (∀ W, Calls Tryd.prog 15 #[.string a] W fun e w' => e = .returned (.tuple #[.string ⟨#[]⟩, .int .i64 3]) ∧ Below W.heap.size W w') := fun W => (unb_any a W (by omega)).mono fun e w' hu => hu.2 hq
      have CR : Hid (∀ W, Calls Tryd.prog 18 #[.string a] W fun e w' => e = .returned (.tuple #[.string ⟨#[]⟩, .int .i64 3]) ∧ Below W.heap.size W w') := fun W => refUnbase64_no a W (by omega) hq
      clear hq
      go_enter Tryd.func6, Tryd.ntmps6
      go_wp2_with fail
      refine (HA.out _).mono ?_
      rintro e w1 ⟨rfl, hb1⟩
      have hB0 : Hid (Below w.heap.size w w1) := hb1
      clear hb1
      go_wp2_with fail
      refine (CH.out _).mono ?_
      rintro e v0 ⟨rfl, hb⟩
      have hB1 := bt hB0 hb
      clear hb
      go_wp2_with fail
      refine (CR.out _).mono ?_
      rintro e v1 ⟨rfl, hb⟩
      have hB2 := bt hB1 hb
      clear hb
      go_wp2
      go_ret
      exact ⟨rfl, hB2.out⟩
  · go_enter Tryd.func6, Tryd.ntmps6
    go_wp2_with fail
    refine (HA.out _).mono ?_
    rintro e w1 ⟨rfl, hb1⟩
    have hB0 : Hid (Below w.heap.size w w1) := hb1
    clear hb1
    go_wp2
    go_ret
    exact ⟨rfl, hB0.out⟩
set_option maxRecDepth 100000 in
set_option maxHeartbeats 4000000 in
theorem walkArmorLengths (w : World) (a : ByteArray) (h : a.size ≤ maxLen) : Calls Tryd.prog 8 #[.string a] w fun e w' => e = .returned (.bool true) ∧ Below w.heap.size w w' := by
  unfold maxLen at h
  have HA := Lib.hid awake_any
  by_cases hs : a.size ≤ 1000
  · have e2 : a.data.toList.length = a.size := by simp
    obtain ⟨H, hH, hHs⟩ : ∃ H : ByteArray, H = ⟨(hexA a.data.toList).toArray⟩ ∧ (H.size : Int) = 2 * (a.size : Int) := ⟨_, rfl, by
      have e1 : (⟨(hexA a.data.toList).toArray⟩ : ByteArray).size = (hexA a.data.toList).length := by simp [ByteArray.size]
      rw [e1, hexA_len, e2]; omega⟩
    obtain ⟨B, hB, hBs⟩ : ∃ B : ByteArray, B = ⟨(b64A a.data.toList).toArray⟩ ∧ (B.size : Int) = ((a.size : Int) + 2) / 3 * 4 := ⟨_, rfl, by
      have e1 : (⟨(b64A a.data.toList).toArray⟩ : ByteArray).size = (b64A a.data.toList).length := by simp [ByteArray.size]
      rw [e1, b64A_len, e2]; omega⟩
    have CH : Hid (∀ W, Calls Tryd.prog 12 #[.string a] W fun e w' => e = .returned (.string H) ∧ Below W.heap.size W w') := fun W => by rw [hH]; exact hex_any a W (by omega)
    have CB : Hid (∀ W, Calls Tryd.prog 16 #[.string a] W fun e w' => e = .returned (.string B) ∧ Below W.heap.size W w') := fun W => by rw [hB]; exact b64_any a W (by omega)
    clear hH hB e2
    go_enter Tryd.func8, Tryd.ntmps8
    go_wp2_with fail
    refine (HA.out _).mono ?_
    rintro e w1 ⟨rfl, hb1⟩
    have hB0 : Hid (Below w.heap.size w w1) := hb1
    clear hb1
    go_wp2_with fail
    refine (CH.out _).mono ?_
    rintro e v0 ⟨rfl, hb⟩
    have hB1 := bt hB0 hb
    clear hb
    go_wp2_with fail
    refine (CB.out _).mono ?_
    rintro e v1 ⟨rfl, hb⟩
    have hB2 := bt hB1 hb
    clear hb
    go_wp2
    go_ret
    exact ⟨rfl, hB2.out⟩
  · go_enter Tryd.func8, Tryd.ntmps8
    go_wp2_with fail
    refine (HA.out _).mono ?_
    rintro e w1 ⟨rfl, hb1⟩
    have hB0 : Hid (Below w.heap.size w w1) := hb1
    clear hb1
    go_wp2
    go_ret
    exact ⟨rfl, hB0.out⟩
end Go.Proofs.YtaapmndfefjdcaaDoor
