/-
  Helper: what Line and Offset answer, by places of the source.
-/
import Derived.Test.YtmoljdgalonlpabDoorPosMeth
namespace Go.Proofs.YtmoljdgalonlpabDoor
open Go.RowKit
set_option linter.unusedVariables false

theorem getL (s : ByteArray) (k : Nat) (h : k < s.size) : s.data.toList[k]? = some s[k] := get_some s k s[k] h rfl

/-- cutting a carriage return at the end, by places -/
theorem lineL_last (l : List UInt8) (b e : Nat) : lineL l b e false = (l.drop b).take (e - b) := by unfold lineL; simp
theorem suffix_cr (x : List UInt8) : Lib.trimSuffix x [13] = if x.getLast? = some 13 then x.dropLast else x := by
  unfold Lib.trimSuffix Lib.hasSuffix
  rcases List.eq_nil_or_concat x with rfl | ⟨y, c, rfl⟩
  · rfl
  · have h1 : (y.concat c).getLast? = some c := by simp
    have h2 : List.isSuffixOf [13] (y.concat c) = (c == 13) := by
      rw [List.concat_eq_append]
      unfold List.isSuffixOf
      rw [List.reverse_append]
      show ((13 : UInt8) == c && true) = (c == 13)
      rw [Bool.and_true]
      exact Bool.eq_iff_iff.2 (by rw [beq_iff_eq, beq_iff_eq]; exact eq_comm)
    rw [h1, h2]
    by_cases hc : c = 13
    · subst hc; simp [List.dropLast_eq_take]
    · have : (c == 13) = false := by simpa using hc
      rw [this, if_neg (fun g => hc (Option.some.inj g)), if_neg (by simp)]
/-- the reference's end of a line: one byte less where a carriage return stands before the line feed -/
def rfin (s : ByteArray) (i : Nat) : Nat := if finS s i < s.size ∧ begS s i < finS s i ∧ s.data.toList[finS s i - 1]? = some 13 then finS s i - 1 else finS s i
theorem finS_more (s : ByteArray) (i : Nat) (hi : i ≤ nln s) : finS s i < s.size ↔ i < nln s := by
  constructor
  · intro h
    by_cases g : i < nln s
    · exact g
    · obtain rfl : i = nln s := by omega
      rw [finS_last] at h; omega
  · intro h
    have := (fin_nl s.data.toList i (by rw [len_eq]; exact h)).2
    rw [len_eq] at this; exact this
theorem lineL_rfin (s : ByteArray) (i : Nat) (hi : i ≤ nln s) : lineL s.data.toList (begS s i) (finS s i) (decide (i < nln s)) = (s.data.toList.drop (begS s i)).take (rfin s i - begS s i) := by
  have hbf := begS_finS s i hi
  have hfl := finS_le s i
  by_cases h : i < nln s
  · rw [decide_eq_true h]
    unfold lineL
    rw [if_pos rfl, suffix_cr]
    have hlen : ((s.data.toList.drop (begS s i)).take (finS s i - begS s i)).length = finS s i - begS s i := by rw [List.length_take, List.length_drop, len_eq]; omega
    have hlast : ((s.data.toList.drop (begS s i)).take (finS s i - begS s i)).getLast? = if begS s i < finS s i then s.data.toList[finS s i - 1]? else none := by
      rw [List.getLast?_eq_getElem?, hlen]
      by_cases g : begS s i < finS s i
      · rw [if_pos g, List.getElem?_take_of_lt (by omega), List.getElem?_drop]; congr 1; omega
      · rw [if_neg g, List.getElem?_eq_none (by omega)]
    rw [hlast]
    unfold rfin
    have hfs := (finS_more s i hi).2 h
    by_cases g : begS s i < finS s i
    · rw [if_pos g]
      by_cases c : s.data.toList[finS s i - 1]? = some 13
      · rw [if_pos c, if_pos ⟨hfs, g, c⟩, List.dropLast_eq_take, hlen, List.take_take]; congr 1; omega
      · rw [if_neg c, if_neg (fun x => c x.2.2)]
    · rw [if_neg g, if_neg (by simp), if_neg (fun x => g x.2.1)]
  · rw [decide_eq_false h, lineL_last]
    unfold rfin
    rw [if_neg (fun x => h ((finS_more s i hi).1 x.1))]

theorem rfin_bd (s : ByteArray) (i : Nat) (hi : i ≤ nln s) : begS s i ≤ rfin s i ∧ rfin s i ≤ finS s i ∧ finS s i ≤ rfin s i + 1 := by
  have := begS_finS s i hi
  unfold rfin
  by_cases h : finS s i < s.size ∧ begS s i < finS s i ∧ s.data.toList[finS s i - 1]? = some 13
  · rw [if_pos h]; omega
  · rw [if_neg h]; omega
/-- a line that is not the last one: its line feed; the carriage return that the reading left out -/
theorem line_end (s : ByteArray) (i : Nat) (hi : i < nln s) : ∃ h : finS s i < s.size, s[finS s i] = 10 ∧ begS s (i + 1) = finS s i + 1 ∧ (rfin s i = finS s i ∨ ∃ h2 : rfin s i < s.size, rfin s i + 1 = finS s i ∧ s[rfin s i] = 13) := by
  have h1 := fin_nl s.data.toList i (by rw [len_eq]; exact hi)
  have h2 : finS s i < s.size := by have := h1.2; rw [len_eq] at this; exact this
  refine ⟨h2, ?_, beg_succ _ _ (by rw [len_eq]; exact hi), ?_⟩
  · have := getL s (finS s i) h2
    exact Option.some.inj (this.symm.trans h1.1)
  · unfold rfin
    by_cases h : finS s i < s.size ∧ begS s i < finS s i ∧ s.data.toList[finS s i - 1]? = some 13
    · rw [if_pos h]
      refine .inr ⟨by omega, by omega, ?_⟩
      have := getL s (finS s i - 1) (by omega)
      exact Option.some.inj (this.symm.trans h.2.2)
    · rw [if_neg h]; exact .inl rfl

theorem line_ext (s : ByteArray) (a : Option Addr) (cap : Nat) (w : World) (hs : s.size ≤ 100000) (hr : Rd w a (nln s) (nlf s)) (i : Nat) (hi : i ≤ nln s) :
    Calls Tryd.prog 6 #[.agg #[.string s, .slice a (nln s) cap], .int .i64 i] w fun e w' => e = .returned (.tuple #[.string (s.extract (begS s i) (rfin s i)), .int .i64 0]) ∧ Below w.heap.size w w' := by
  have h := line_some s a cap w hs hr i hi
  rw [lineL_rfin s i hi, ← Lib.extract_eq] at h
  exact h
theorem offset_col0 (s : ByteArray) (a : Option Addr) (cap : Nat) (w : World) (hs : s.size ≤ 100000) (hr : Rd w a (nln s) (nlf s)) (i : Nat) (hi : i ≤ nln s) :
    Calls Tryd.prog 7 #[.agg #[.string s, .slice a (nln s) cap], .int .i64 i, .int .i64 0] w fun e w' => e = .returned (.tuple #[.int .i64 (begS s i), .int .i64 0]) ∧ Below w.heap.size w w' := by
  have hb := begS_finS s i hi
  have h := offset_some s a cap w hs hr i hi 0
  rw [if_pos (by omega), Int.add_zero] at h
  exact h

end Go.Proofs.YtmoljdgalonlpabDoor
