/-
  Helper: the walks of the reference's Unhex and Unbase64.
-/
import Derived.Test.YtaapmndfefjdcaaDoorArUnp
import Derived.Outline
namespace Go.Proofs.YtaapmndfefjdcaaDoor
open Go.RowKit
set_option linter.unusedVariables false

def PairP (l : List UInt8) (k : Int) (w : World) (e : Ending) (w' : World) : Prop := e = .returned (.tuple #[.string ⟨l.toArray⟩, .int .i64 k]) ∧ Below w.heap.size w w'

set_option maxHeartbeats 1000000 in
theorem refUnhex_yes (s : ByteArray) (w : World) (hs : s.size ≤ 100000) (h : hexA (bytesOf (stream HX 4 s.data.toList)) = s.data.toList) :
    Calls Tryd.prog 14 #[.string s] w (PairP (bytesOf (stream HX 4 s.data.toList)) 0 w) := by
  have HU := Lib.hid (fun w => unpack4_any s w hs)
  have hl : (bytesOf (stream HX 4 s.data.toList)).length ≤ 100000 := by
    have h1 := stream_len HX 4 s.data.toList
    have h2 : s.data.toList.length = s.size := by simp
    unfold bytesOf; rw [bytesR_len]; omega
  have HH := Lib.hid (fun w => refHex_any ⟨(bytesOf (stream HX 4 s.data.toList)).toArray⟩ w (by simpa [ByteArray.size] using hl))
  have hbt : (hexA (bytesOf (stream HX 4 s.data.toList)) == s.toList) = true := by rw [beq_iff_eq, h, Lib.toList_data]
  have HF : Hid (∀ w', Below w.heap.size w w' → PairP (bytesOf (stream HX 4 s.data.toList)) 0 w (.returned (.tuple #[.string ⟨(bytesOf (stream HX 4 s.data.toList)).toArray⟩, .int .i64 0])) w') := fun w' hb => ⟨rfl, hb⟩
  clear h hl
  generalize hPo : PairP (bytesOf (stream HX 4 s.data.toList)) 0 w = Po at *
  clear hPo
  generalize bytesOf (stream HX 4 s.data.toList) = t at *
  go_enter Tryd.func14, Tryd.ntmps14
  go_wp2_with fail
  refine (HU.out _).mono ?_
  rintro e w1 ⟨rfl, hb1⟩
  go_wp2_with fail
  refine (HH.out _).mono ?_
  rintro e w2 ⟨rfl, hb2⟩
  have hfin := Lib.hid (HF.out w2 (hb1.trans (hb2.mono hb1.size)))
  have hbt2 : ((hexA t) == s.toList) = true := hbt
  clear hb1 hb2 hbt
  generalize hexA t = y at *
  go_wp2
  exact hfin.out
set_option maxHeartbeats 1000000 in
theorem refUnhex_no (s : ByteArray) (w : World) (hs : s.size ≤ 100000) (h : hexA (bytesOf (stream HX 4 s.data.toList)) ≠ s.data.toList) :
    Calls Tryd.prog 14 #[.string s] w (PairP [] 3 w) := by
  have HU := Lib.hid (fun w => unpack4_any s w hs)
  have hl : (bytesOf (stream HX 4 s.data.toList)).length ≤ 100000 := by
    have h1 := stream_len HX 4 s.data.toList
    have h2 : s.data.toList.length = s.size := by simp
    unfold bytesOf; rw [bytesR_len]; omega
  have HH := Lib.hid (fun w => refHex_any ⟨(bytesOf (stream HX 4 s.data.toList)).toArray⟩ w (by simpa [ByteArray.size] using hl))
  have hbt : (hexA (bytesOf (stream HX 4 s.data.toList)) == s.toList) = false := by rw [beq_eq_false_iff_ne, Lib.toList_data]; exact h
  have HF : Hid (∀ w', Below w.heap.size w w' → PairP [] 3 w (.returned (.tuple #[.string ⟨#[]⟩, .int .i64 3])) w') := fun w' hb => ⟨rfl, hb⟩
  clear h hl
  generalize hPo : PairP [] 3 w = Po at *
  clear hPo
  generalize bytesOf (stream HX 4 s.data.toList) = t at *
  go_enter Tryd.func14, Tryd.ntmps14
  go_wp2_with fail
  refine (HU.out _).mono ?_
  rintro e w1 ⟨rfl, hb1⟩
  go_wp2_with fail
  refine (HH.out _).mono ?_
  rintro e w2 ⟨rfl, hb2⟩
  have hfin := Lib.hid (HF.out w2 (hb1.trans (hb2.mono hb1.size)))
  clear hb1 hb2
  generalize hexA t = y at *
  go_wp2
  exact hfin.out

set_option maxHeartbeats 1000000 in
theorem refUnbase64_yes (s : ByteArray) (w : World) (hs : s.size ≤ 100000) (h : b64A (bytesOf (stream SX 6 s.data.toList)) = s.data.toList) :
    Calls Tryd.prog 18 #[.string s] w (PairP (bytesOf (stream SX 6 s.data.toList)) 0 w) := by
  have HU := Lib.hid (fun w => unpack6_any s w hs)
  have hl : (bytesOf (stream SX 6 s.data.toList)).length ≤ 100000 := by
    have h1 := stream_len SX 6 s.data.toList
    have h2 : s.data.toList.length = s.size := by simp
    unfold bytesOf; rw [bytesR_len]; omega
  have HH := Lib.hid (fun w => refB64_any ⟨(bytesOf (stream SX 6 s.data.toList)).toArray⟩ w (by simpa [ByteArray.size] using hl))
  have hbt : (b64A (bytesOf (stream SX 6 s.data.toList)) == s.toList) = true := by rw [beq_iff_eq, h, Lib.toList_data]
  have HF : Hid (∀ w', Below w.heap.size w w' → PairP (bytesOf (stream SX 6 s.data.toList)) 0 w (.returned (.tuple #[.string ⟨(bytesOf (stream SX 6 s.data.toList)).toArray⟩, .int .i64 0])) w') := fun w' hb => ⟨rfl, hb⟩
  clear h hl
  generalize hPo : PairP (bytesOf (stream SX 6 s.data.toList)) 0 w = Po at *
  clear hPo
  generalize bytesOf (stream SX 6 s.data.toList) = t at *
  go_enter Tryd.func18, Tryd.ntmps18
  go_wp2_with fail
  refine (HU.out _).mono ?_
  rintro e w1 ⟨rfl, hb1⟩
  go_wp2_with fail
  refine (HH.out _).mono ?_
  rintro e w2 ⟨rfl, hb2⟩
  have hfin := Lib.hid (HF.out w2 (hb1.trans (hb2.mono hb1.size)))
  have hbt2 : ((b64A t) == s.toList) = true := hbt
  clear hb1 hb2 hbt
  generalize b64A t = y at *
  go_wp2
  exact hfin.out
set_option maxHeartbeats 1000000 in
theorem refUnbase64_no (s : ByteArray) (w : World) (hs : s.size ≤ 100000) (h : b64A (bytesOf (stream SX 6 s.data.toList)) ≠ s.data.toList) :
    Calls Tryd.prog 18 #[.string s] w (PairP [] 3 w) := by
  have HU := Lib.hid (fun w => unpack6_any s w hs)
  have hl : (bytesOf (stream SX 6 s.data.toList)).length ≤ 100000 := by
    have h1 := stream_len SX 6 s.data.toList
    have h2 : s.data.toList.length = s.size := by simp
    unfold bytesOf; rw [bytesR_len]; omega
  have HH := Lib.hid (fun w => refB64_any ⟨(bytesOf (stream SX 6 s.data.toList)).toArray⟩ w (by simpa [ByteArray.size] using hl))
  have hbt : (b64A (bytesOf (stream SX 6 s.data.toList)) == s.toList) = false := by rw [beq_eq_false_iff_ne, Lib.toList_data]; exact h
  have HF : Hid (∀ w', Below w.heap.size w w' → PairP [] 3 w (.returned (.tuple #[.string ⟨#[]⟩, .int .i64 3])) w') := fun w' hb => ⟨rfl, hb⟩
  clear h hl
  generalize hPo : PairP [] 3 w = Po at *
  clear hPo
  generalize bytesOf (stream SX 6 s.data.toList) = t at *
  go_enter Tryd.func18, Tryd.ntmps18
  go_wp2_with fail
  refine (HU.out _).mono ?_
  rintro e w1 ⟨rfl, hb1⟩
  go_wp2_with fail
  refine (HH.out _).mono ?_
  rintro e w2 ⟨rfl, hb2⟩
  have hfin := Lib.hid (HF.out w2 (hb1.trans (hb2.mono hb1.size)))
  clear hb1 hb2
  generalize b64A t = y at *
  go_wp2
  exact hfin.out
end Go.Proofs.YtaapmndfefjdcaaDoor
