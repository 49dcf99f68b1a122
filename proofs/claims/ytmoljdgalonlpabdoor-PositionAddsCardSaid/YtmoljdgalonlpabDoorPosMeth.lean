/-
  Helper: the walks of Offset, Line and At of position.Lines.
-/
import Derived.Test.YtmoljdgalonlpabDoorBase
import Derived.Test.YtmoljdgalonlpabDoorPosGet
import Derived.Deep.RegionHeld3
import Derived.Shelf.SlSorted.Search
namespace Go.Proofs.YtmoljdgalonlpabDoor
open Go.RowKit
set_option linter.unusedVariables false

theorem finS_le (s : ByteArray) (i : Nat) : finS s i ≤ s.size := by have := fin_le s.data.toList i; rw [len_eq] at this; exact this
theorem begS_finS (s : ByteArray) (i : Nat) (h : i ≤ nln s) : begS s i ≤ finS s i := beg_fin _ _ (by rw [len_eq]; exact h)


set_option maxHeartbeats 400000 in
theorem offset_none (s : ByteArray) (a : Option Addr) (cap : Nat) (w : World) (hs : s.size ≤ 100000) (i c : Int) (h : i < 0 ∨ (nln s : Int) < i) :
    Calls Tryd.prog 7 #[.agg #[.string s, .slice a (nln s) cap], .int .i64 i, .int .i64 c] w fun e w' => e = .returned (.tuple #[.int .i64 0, .int .i64 9]) ∧ Below w.heap.size w w' := by
  have hn := nln_le s
  have hc := fun w => has_no s a (nln s) cap w (by omega) i h
  generalize nln s = n at *
  have HC := Lib.hid hc
  clear hc h
  go_enter Tryd.func7, Tryd.ntmps7
  go_wp2_with fail
  refine (HC.out _).mono ?_
  rintro e w1 ⟨rfl, hb⟩
  go_wp2_with fail
  go_ret2
  exact ⟨rfl, ((Below.refl _ w).alloc (Nat.le_refl _) _).trans (hb.mono (by simp))⟩

set_option maxHeartbeats 400000 in
theorem offset_some (s : ByteArray) (a : Option Addr) (cap : Nat) (w : World) (hs : s.size ≤ 100000) (hr : Rd w a (nln s) (nlf s)) (i : Nat) (hi : i ≤ nln s) (c : Int) :
    Calls Tryd.prog 7 #[.agg #[.string s, .slice a (nln s) cap], .int .i64 i, .int .i64 c] w fun e w' => e = .returned (if 0 ≤ c ∧ c ≤ (finS s i : Int) - begS s i then .tuple #[.int .i64 (begS s i + c), .int .i64 0] else .tuple #[.int .i64 0, .int .i64 2]) ∧ Below w.heap.size w w' := by
  have hn := nln_le s
  have hb1 := begS_finS s i hi
  have hf1 := finS_le s i
  have HH := Lib.hid (fun w => has_yes s a (nln s) cap w (by omega) i (by omega) (by omega))
  have HB := Lib.hid (fun w hr => begin_any s a cap w hs hr i hi)
  have HE := Lib.hid (fun w hr => end_any s a cap w hs hr i hi)
  have HR := Lib.hid hr
  clear hr
  generalize nln s = n at *
  generalize nlf s = f at *
  generalize finS s i = fi at *
  generalize begS s i = be at *
  go_enter Tryd.func7, Tryd.ntmps7
  go_wp2_with fail
  refine (HH.out _).mono ?_
  rintro e w1 ⟨rfl, hw1⟩
  obtain ⟨c0, c1, hb, hz⟩ := box2 hw1
  clear hw1
  go_wp2_with fail
  refine (HB.out w1 (HR.out.below hb)).mono ?_
  rintro e w2 ⟨rfl, hw2⟩
  have c02 := hw2.cell (p := ⟨w.heap.size, 0, none⟩) hz
  have c12 := hw2.cell (p := ⟨w.heap.size, 1, none⟩) hz
  rw [c0] at c02
  rw [c1] at c12
  have hz2 : w.heap.size < w2.heap.size := Nat.lt_of_lt_of_le hz hw2.size
  have hbw2 : Below w.heap.size w w2 := hb.trans (hw2.mono (by omega))
  clear c0 c1 hw2
  by_cases hneg : c < 0
  · go_wp2_with fail
    go_ret2
    refine ⟨?_, hbw2⟩
    first | rfl | (rw [if_neg (by omega)]; rfl)
  · go_wp2_with fail
    refine (HE.out w2 (HR.out.below hbw2)).mono ?_
    rintro e w3 ⟨rfl, hw3⟩
    have hbw3 : Below w.heap.size w w3 := hbw2.trans (hw3.mono (by omega))
    by_cases hle : c ≤ (fi : Int) - be
    · have hg : ¬ (fi : Int) - be < c := by omega
      go_wp2_with fail
      go_ret2
      refine ⟨?_, hbw3⟩
      first | rfl | (rw [if_pos (by omega)]; rfl)
    · have hg : (fi : Int) - be < c := by omega
      go_wp2_with fail
      go_ret2
      refine ⟨?_, hbw3⟩
      first | rfl | (rw [if_neg (by omega)]; rfl)

set_option maxHeartbeats 400000 in
theorem line_none (s : ByteArray) (a : Option Addr) (cap : Nat) (w : World) (hs : s.size ≤ 100000) (i : Int) (h : i < 0 ∨ (nln s : Int) < i) :
    Calls Tryd.prog 6 #[.agg #[.string s, .slice a (nln s) cap], .int .i64 i] w fun e w' => e = .returned (.tuple #[.string ⟨#[]⟩, .int .i64 9]) ∧ Below w.heap.size w w' := by
  have hn := nln_le s
  have HC := Lib.hid (fun w => has_no s a (nln s) cap w (by omega) i h)
  generalize nln s = n at *
  clear h
  go_enter Tryd.func6, Tryd.ntmps6
  go_wp2_with fail
  refine (HC.out _).mono ?_
  rintro e w1 ⟨rfl, hb⟩
  go_wp2_with fail
  go_ret2
  exact ⟨rfl, ((Below.refl _ w).alloc (Nat.le_refl _) _).trans (hb.mono (by simp))⟩

/-- what a region with calls keeps of a struct's box of two cells at block k, and of the world before -/
def Kept (w0 : World) (k : Nat) (a : Option Addr) (n : Nat) (f : Nat → Nat) (w : World) : Prop := Rd w a n f ∧ Below k w0 w ∧ k < w.heap.size
theorem keep2 {w0 : World} {k : Nat} {a : Option Addr} {n : Nat} {f : Nat → Nat} {w w' : World} {x y : Value} (hb : Below w.heap.size w w') (h : w.cell? ⟨k, 0, none⟩ = some x ∧ w.cell? ⟨k, 1, none⟩ = some y ∧ Kept w0 k a n f w) :
    w'.cell? ⟨k, 0, none⟩ = some x ∧ w'.cell? ⟨k, 1, none⟩ = some y ∧ Kept w0 k a n f w' := by
  obtain ⟨h0, h1, hr, hk, hz⟩ := h
  exact ⟨by rw [hb.cell (p := ⟨k, 0, none⟩) hz]; exact h0, by rw [hb.cell (p := ⟨k, 1, none⟩) hz]; exact h1, hr.below hb, hk.trans (hb.mono (by omega)), Nat.lt_of_lt_of_le hz hb.size⟩
theorem keep2_drew {w0 : World} {k : Nat} {a : Option Addr} {n : Nat} {f : Nat → Nat} {w : World} {x y : Value} (h : w.cell? ⟨k, 0, none⟩ = some x ∧ w.cell? ⟨k, 1, none⟩ = some y ∧ Kept w0 k a n f w) :
    w.drew.cell? ⟨k, 0, none⟩ = some x ∧ w.drew.cell? ⟨k, 1, none⟩ = some y ∧ Kept w0 k a n f w.drew := keep2 ((Below.refl _ w).drew) h

/-- a line without its line end, as a list -/
def lineL (l : List UInt8) (b e : Nat) (more : Bool) : List UInt8 := if more then Lib.trimSuffix ((l.drop b).take (e - b)) [13] else (l.drop b).take (e - b)

set_option maxHeartbeats 1000000 in
theorem line_some (s : ByteArray) (a : Option Addr) (cap : Nat) (w : World) (hs : s.size ≤ 100000) (hr : Rd w a (nln s) (nlf s)) (i : Nat) (hi : i ≤ nln s) :
    Calls Tryd.prog 6 #[.agg #[.string s, .slice a (nln s) cap], .int .i64 i] w fun e w' => e = .returned (.tuple #[.string ⟨(lineL s.data.toList (begS s i) (finS s i) (decide (i < nln s))).toArray⟩, .int .i64 0]) ∧ Below w.heap.size w w' := by
  have hn := nln_le s
  have hb1 := begS_finS s i hi
  have hf1 := finS_le s i
  have HH := Lib.hid (fun w => has_yes s a (nln s) cap w (by omega) i (by omega) (by omega))
  have HB := Lib.hid (fun w hr => begin_any s a cap w hs hr i hi)
  have HE := Lib.hid (fun w hr => end_any s a cap w hs hr i hi)
  have HR := Lib.hid hr
  clear hr
  generalize nln s = n at *
  generalize nlf s = f at *
  generalize finS s i = fi at *
  generalize begS s i = be at *
  go_enter Tryd.func6, Tryd.ntmps6
  go_wp2_with fail
  refine (HH.out _).mono ?_
  rintro e w1 ⟨rfl, hw1⟩
  obtain ⟨c0, c1, hb, hz⟩ := box2 hw1
  clear hw1
  go_wp2_with fail
  have hS : w1.cell? ⟨w.heap.size, 0, none⟩ = some (.string s) ∧ w1.cell? ⟨w.heap.size, 1, none⟩ = some (.slice a n cap) ∧ Kept w w.heap.size a n f w1 := ⟨c0, c1, HR.out.below hb, hb, hz⟩
  clear c0 c1 hb hz
  go_region_held3 (fun w' => w'.cell? ⟨w.heap.size, 0, none⟩ = some (.string s) ∧ w'.cell? ⟨w.heap.size, 1, none⟩ = some (.slice a n cap) ∧ Kept w w.heap.size a n f w') (first | assumption | exact keep2_drew (by assumption) | exact keep2 (by assumption) (by assumption))
    (first | (go_at_call 13; refine (HB.out _ ?_).mono ?_; exact (by assumption : _ ∧ _ ∧ Kept _ _ _ _ _ _).2.2.1; rintro e w' ⟨rfl, hbb⟩) | (go_at_call 15; refine (HE.out _ ?_).mono ?_; exact (by assumption : _ ∧ _ ∧ Kept _ _ _ _ _ _).2.2.1; rintro e w' ⟨rfl, hbb⟩))
  rename_i wz hSz
  obtain ⟨c0, c1, hk⟩ := hSz
  have hbz := hk.2.1
  clear hk
  by_cases hlt : i < n
  · have hm : Hid (lineL s.data.toList be fi (decide (i < n)) = Lib.trimSuffix ((s.data.toList.drop be).take (fi - be)) [13]) := by
      unfold lineL; rw [if_pos (by simpa using hlt)]; exact rfl
    go_wp2_with fail
    refine (Tryd.strings_TrimSuffix _ _ _ (by rw [ByteArray.size_extract]; omega)).mono ?_
    rintro e w9 ⟨rfl, rfl⟩
    go_wp2_with fail
    go_ret2
    rw [hm.out]
    exact ⟨rfl, hbz⟩
  · have hm : Hid (lineL s.data.toList be fi (decide (i < n)) = (s.extract be fi).data.toList) := by
      unfold lineL; rw [if_neg (by simpa using hlt), extract_l]; exact rfl
    go_wp2_with fail
    go_ret2
    rw [hm.out, extract_l]
    refine ⟨?_, hbz⟩
    rw [show s.extract be fi = ⟨((s.data.toList.drop be).take (fi - be)).toArray⟩ from Lib.extract_eq _ _ _]
    rfl
end Go.Proofs.YtmoljdgalonlpabDoor
