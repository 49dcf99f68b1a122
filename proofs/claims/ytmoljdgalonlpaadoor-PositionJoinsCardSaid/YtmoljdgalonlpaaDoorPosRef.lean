/-
  Helper: the walks of the reference of layer 2: Count, At, Begin, End, Offset, Line.
-/
import Derived.Test.YtmoljdgalonlpaaDoorPosMeth
namespace Go.Proofs.YtmoljdgalonlpaaDoor
open Go.RowKit
set_option linter.unusedVariables false

theorem getL (s : ByteArray) (k : Nat) (h : k < s.size) : s.data.toList[k]? = some s[k] := get_some s k s[k] h rfl

set_option maxHeartbeats 400000 in
theorem rcount_any (s : ByteArray) (w : World) (hs : s.size ≤ 100000) :
    Calls Tryd.prog 32 #[.string s] w fun e w' => e = .returned (.int .i64 ((nln s : Int) + 1)) ∧ w = w' := by
  go_enter Tryd.func32, Tryd.ntmps32
  go_wp2
  go_loop [3, 4] (fun n i => ∃ k : Nat, k ≤ s.size ∧ i = .int .i64 k ∧ n = .int .i64 ((cnt s.data.toList k : Int) + 1)) (fun _ i => s.size - (intOf i).toNat)
  case atStart => exact ⟨0, Nat.zero_le _, rfl, rfl⟩
  case round =>
    obtain ⟨k, hk, rfl, rfl⟩ := hrel
    have hck := cnt_le s.data.toList k
    by_cases hlt : k < s.size
    · by_cases hc : s[k] = 10
      · have hcb : ((s[k].toNat : Int) == 10) = true := byte_eq _ _ hc
        have e1 : Hid (cnt s.data.toList (k + 1) = cnt s.data.toList k + 1) := (beg_nl s.data.toList k (by rw [len_eq]; exact hlt) (by rw [getL s k hlt, hc])).1
        clear hc
        go_wp2
        go_round
        case rel => exact ⟨k + 1, by omega, by go_num, by rw [e1.out]; go_num⟩
        case measure => simp [intOf]; omega
      · have hcb : ((s[k].toNat : Int) == 10) = false := byte_ne _ _ hc
        have e1 : Hid (cnt s.data.toList (k + 1) = cnt s.data.toList k) := cnt_no _ _ (by rw [getL s k hlt]; exact fun g => hc (Option.some.inj g))
        clear hc
        go_wp2
        go_round
        case rel => exact ⟨k + 1, by omega, by go_num, by rw [e1.out]⟩
        case measure => simp [intOf]; omega
    · obtain rfl : k = s.size := by omega
      go_wp2
      go_ret
      exact ⟨rfl, rfl⟩

set_option maxHeartbeats 400000 in
theorem rat_none (s : ByteArray) (o : Int) (w : World) (hs : s.size ≤ 100000) (ho : o < 0 ∨ (s.size : Int) < o) :
    Calls Tryd.prog 30 #[.string s, .int .i64 o] w fun e w' => e = .returned (.tuple #[.int .i64 0, .int .i64 0, .int .i64 2]) ∧ w = w' := by
  rcases ho with ho | ho
  all_goals
    go_enter Tryd.func30, Tryd.ntmps30
    go_wp2
    go_ret3
    exact ⟨rfl, rfl⟩

set_option maxHeartbeats 400000 in
theorem rat_some (s : ByteArray) (o : Nat) (w : World) (hs : s.size ≤ 100000) (ho : o ≤ s.size) :
    Calls Tryd.prog 30 #[.string s, .int .i64 o] w fun e w' => e = .returned (.tuple #[.int .i64 (cnt s.data.toList o), .int .i64 ((o : Int) - begS s (cnt s.data.toList o)), .int .i64 0]) ∧ w = w' := by
  go_enter Tryd.func30, Tryd.ntmps30
  go_wp2
  go_loop [7, 8, 9] (fun ln cl i => ∃ k : Nat, k ≤ o ∧ i = .int .i64 k ∧ ln = .int .i64 (cnt s.data.toList k) ∧ cl = .int .i64 ((k : Int) - begS s (cnt s.data.toList k))) (fun _ _ i => o - (intOf i).toNat)
  case atStart => exact ⟨0, Nat.zero_le _, rfl, rfl, rfl⟩
  case round =>
    obtain ⟨k, hk, rfl, rfl, rfl⟩ := hrel
    have hck := cnt_le s.data.toList k
    have hbk : begS s (cnt s.data.toList k) ≤ k := beg_le s.data.toList k (by rw [len_eq]; omega)
    by_cases hlt : k < o
    · have hls : k < s.size := by omega
      by_cases hc : s[k] = 10
      · have hcb : ((s[k].toNat : Int) == 10) = true := byte_eq _ _ hc
        have e0 := beg_nl s.data.toList k (by rw [len_eq]; exact hls) (by rw [getL s k hls, hc])
        have e1 : Hid (cnt s.data.toList (k + 1) = cnt s.data.toList k + 1) := e0.1
        have e2 : Hid (begS s (cnt s.data.toList (k + 1)) = k + 1) := e0.2
        clear hc e0
        generalize begS s (cnt s.data.toList k) = bk at *
        go_wp2
        go_round
        case rel => exact ⟨k + 1, by omega, by go_num, by rw [e1.out]; go_num, by rw [e2.out]; exact congrArg (Value.int .i64) (by omega)⟩
        case measure => simp [intOf]; omega
      · have hcb : ((s[k].toNat : Int) == 10) = false := byte_ne _ _ hc
        have e1 : Hid (cnt s.data.toList (k + 1) = cnt s.data.toList k) := cnt_no _ _ (by rw [getL s k hls]; exact fun g => hc (Option.some.inj g))
        clear hc
        have e3 : Hid (begS s (cnt s.data.toList (k + 1)) = begS s (cnt s.data.toList k)) := by rw [e1.out]; exact rfl
        generalize begS s (cnt s.data.toList k) = bk at *
        go_wp2
        go_round
        case rel => exact ⟨k + 1, by omega, by go_num, by rw [e1.out], by rw [e3.out]; exact congrArg (Value.int .i64) (by omega)⟩
        case measure => simp [intOf]; omega
    · obtain rfl : k = o := by omega
      go_wp2
      go_ret3
      exact ⟨rfl, rfl⟩

/-- where a line begins for the reference: -1 if there is no such line -/
def rbeg (s : ByteArray) (i : Nat) : Int := if i ≤ nln s then begS s i else -1

set_option maxHeartbeats 400000 in
theorem rbegin_zero (s : ByteArray) (w : World) :
    Calls Tryd.prog 54 #[.string s, .int .i64 0] w fun e w' => e = .returned (.int .i64 0) ∧ w = w' := by
  go_enter Tryd.func54, Tryd.ntmps54
  go_wp2
  go_ret
  exact ⟨rfl, rfl⟩
set_option maxHeartbeats 1000000 in
theorem rbegin_more (s : ByteArray) (i : Nat) (w : World) (hs : s.size ≤ 100000) (h0 : 1 ≤ i) (hb : i ≤ 9223372036854775807) :
    Calls Tryd.prog 54 #[.string s, .int .i64 i] w fun e w' => e = .returned (.int .i64 (rbeg s i)) ∧ w = w' := by
  have hne : ((i : Int) == 0) = false := by rw [beq_eq_false_iff_ne]; omega
  go_enter Tryd.func54, Tryd.ntmps54
  go_wp2
  go_loop [1, 5] (fun ln c => ∃ k : Nat, k ≤ s.size ∧ c = .int .i64 k ∧ cnt s.data.toList k < i ∧ ln = .int .i64 ((i : Int) - cnt s.data.toList k)) (fun _ c => s.size - (intOf c).toNat)
  case atStart => exact ⟨0, Nat.zero_le _, rfl, by show 0 < i; omega, by show Value.int .i64 (i : Int) = .int .i64 ((i : Int) - 0); rw [Int.sub_zero]⟩
  case round =>
    obtain ⟨k, hk, rfl, hci, rfl⟩ := hrel
    by_cases hlt : k < s.size
    · by_cases hc : s[k] = 10
      · have hcb : ((s[k].toNat : Int) == 10) = true := byte_eq _ _ hc
        have e0 := beg_nl s.data.toList k (by rw [len_eq]; exact hlt) (by rw [getL s k hlt, hc])
        have e1 : Hid (cnt s.data.toList (k + 1) = cnt s.data.toList k + 1) := e0.1
        have hle : cnt s.data.toList k + 1 ≤ cnt s.data.toList s.size := by have := cnt_mono s.data.toList (k + 1) s.size (by omega); have := e0.1; omega
        have e2 : Hid (begS s (cnt s.data.toList (k + 1)) = k + 1) := e0.2
        clear hc e0
        by_cases hlast : cnt s.data.toList k + 1 = i
        · have hz : ((i : Int) - (cnt s.data.toList k : Int) - 1 == 0) = true := by rw [beq_iff_eq]; omega
          have hres : Hid (rbeg s i = (k : Int) + 1) := by
            unfold rbeg nln
            rw [if_pos (by omega), ← hlast, ← e1.out, e2.out]; show (((k + 1 : Nat) : Int)) = (k : Int) + 1; omega
          clear hlast hle
          go_wp2
          go_ret
          rw [hres.out]
          exact ⟨rfl, rfl⟩
        · have hz : ((i : Int) - (cnt s.data.toList k : Int) - 1 == 0) = false := by rw [beq_eq_false_iff_ne]; omega
          have hlt2 : cnt s.data.toList k + 1 < i := by omega
          clear hlast hle
          go_wp2
          go_round
          case rel => exact ⟨k + 1, by omega, by go_num, by rw [e1.out]; omega, by rw [e1.out]; exact congrArg (Value.int .i64) (by omega)⟩
          case measure => simp [intOf]; omega
      · have hcb : ((s[k].toNat : Int) == 10) = false := byte_ne _ _ hc
        have e1 : Hid (cnt s.data.toList (k + 1) = cnt s.data.toList k) := cnt_no _ _ (by rw [getL s k hlt]; exact fun g => hc (Option.some.inj g))
        clear hc
        go_wp2
        go_round
        case rel => exact ⟨k + 1, by omega, by go_num, by rw [e1.out]; omega, by rw [e1.out]⟩
        case measure => simp [intOf]; omega
    · obtain rfl : k = s.size := by omega
      have hres : Hid (rbeg s i = -1) := by unfold rbeg nln; rw [if_neg (by omega)]; exact rfl
      go_wp2
      go_ret
      rw [hres.out]
      exact ⟨rfl, rfl⟩
theorem rbegin_any (s : ByteArray) (i : Nat) (w : World) (hs : s.size ≤ 100000) (hb : i ≤ 9223372036854775807) :
    Calls Tryd.prog 54 #[.string s, .int .i64 i] w fun e w' => e = .returned (.int .i64 (rbeg s i)) ∧ w = w' := by
  by_cases h : i = 0
  · subst h
    have : rbeg s 0 = 0 := by unfold rbeg; rw [if_pos (Nat.zero_le _)]; rfl
    rw [this]; exact rbegin_zero s w
  · exact rbegin_more s i w hs (by omega) hb

set_option maxHeartbeats 400000 in
theorem rend_any (s : ByteArray) (i : Nat) (w : World) (hs : s.size ≤ 100000) (hi : i ≤ nln s) :
    Calls Tryd.prog 55 #[.string s, .int .i64 (begS s i)] w fun e w' => e = .returned (.int .i64 (finS s i)) ∧ w = w' := by
  have hbf := begS_finS s i hi
  have hfl := finS_le s i
  have hno : Hid (∀ k (h : k < s.size), begS s i ≤ k → k < finS s i → s[k] ≠ 10) := fun k h h1 h2 hc => line_no_nl s.data.toList i k (by rw [len_eq]; exact hi) h1 h2 (by rw [getL s k h, hc])
  have hfin : Hid (∀ h : finS s i < s.size, s[finS s i] = 10) := fun h => by
    have hlt : i < cnt s.data.toList s.data.toList.length := by
      by_cases g : i < cnt s.data.toList s.data.toList.length
      · exact g
      · have : finS s i = s.size := by unfold finS fin; rw [if_neg g, len_eq]
        omega
    have := (fin_nl s.data.toList i hlt).1
    have h2 := getL s (finS s i) h
    exact Option.some.inj (h2.symm.trans this)
  generalize finS s i = f at *
  generalize begS s i = b at *
  go_enter Tryd.func55, Tryd.ntmps55
  go_wp2
  go_loop [1] (fun c => ∃ k : Nat, b ≤ k ∧ k ≤ f ∧ c = .int .i64 k) (fun c => f - (intOf c).toNat)
  case atStart => exact ⟨b, Nat.le_refl _, hbf, rfl⟩
  case round =>
    obtain ⟨k, h1, h2, rfl⟩ := hrel
    by_cases hlt : k < f
    · have hks : k < s.size := by omega
      have hcb : ((s[k].toNat : Int) == 10) = false := byte_ne _ _ (hno.out k hks h1 hlt)
      have hcn : ((s[k].toNat : Int) != 10) = true := by rw [bne, hcb]; rfl
      go_wp2
      go_round
      case rel => exact ⟨k + 1, by omega, by omega, by go_num⟩
      case measure => simp [intOf]; omega
    · obtain rfl : k = f := by omega
      by_cases hks : k < s.size
      · have hcb : ((s[k].toNat : Int) == 10) = true := byte_eq _ _ (hfin.out hks)
        have hcn : ((s[k].toNat : Int) != 10) = false := by rw [bne, hcb]; rfl
        go_wp2
        go_ret
        exact ⟨rfl, rfl⟩
      · go_wp2
        go_ret
        exact ⟨rfl, rfl⟩

set_option maxHeartbeats 400000 in
theorem roffset_none (s : ByteArray) (i c : Int) (w : World) (hs : s.size ≤ 100000) (h : i < 0 ∨ (nln s : Int) < i) (hb : i ≤ 9223372036854775807) :
    Calls Tryd.prog 34 #[.string s, .int .i64 i, .int .i64 c] w fun e w' => e = .returned (.tuple #[.int .i64 0, .int .i64 9]) ∧ w = w' := by
  by_cases hn : i < 0
  · go_enter Tryd.func34, Tryd.ntmps34
    go_wp2_with fail
    go_ret2
    exact ⟨rfl, rfl⟩
  · obtain ⟨j, rfl⟩ := Int.eq_ofNat_of_zero_le (by omega : 0 ≤ i)
    have hc := rbegin_any s j w hs (by omega)
    rw [show rbeg s j = -1 from by unfold rbeg; rw [if_neg (by omega)]] at hc
    have HC := Lib.hid hc
    clear hc h
    go_enter Tryd.func34, Tryd.ntmps34
    go_wp2_with fail
    refine HC.out.mono ?_
    rintro e w1 ⟨rfl, rfl⟩
    go_wp2_with fail
    go_ret2
    exact ⟨rfl, rfl⟩
set_option maxHeartbeats 400000 in
theorem roffset_some (s : ByteArray) (i : Nat) (c : Int) (w : World) (hs : s.size ≤ 100000) (hi : i ≤ nln s) :
    Calls Tryd.prog 34 #[.string s, .int .i64 i, .int .i64 c] w fun e w' => e = .returned (if 0 ≤ c ∧ c ≤ (finS s i : Int) - begS s i then .tuple #[.int .i64 (begS s i + c), .int .i64 0] else .tuple #[.int .i64 0, .int .i64 2]) ∧ w = w' := by
  have hn := nln_le s
  have hb1 := begS_finS s i hi
  have hf1 := finS_le s i
  have hc := rbegin_any s i w hs (by omega)
  rw [show rbeg s i = begS s i from by unfold rbeg; rw [if_pos hi]] at hc
  have HC := Lib.hid hc
  have HE := Lib.hid (rend_any s i w hs hi)
  clear hc
  generalize nln s = n at *
  generalize finS s i = fi at *
  generalize begS s i = be at *
  go_enter Tryd.func34, Tryd.ntmps34
  go_wp2_with fail
  refine HC.out.mono ?_
  rintro e w1 ⟨rfl, rfl⟩
  go_wp2_with fail
  refine HC.out.mono ?_
  rintro e w1 ⟨rfl, rfl⟩
  by_cases hneg : c < 0
  · go_wp2_with fail
    go_ret2
    refine ⟨?_, rfl⟩
    first | rfl | (rw [if_neg (by omega)]; rfl)
  · go_wp2_with fail
    refine HE.out.mono ?_
    rintro e w1 ⟨rfl, rfl⟩
    by_cases hle : c ≤ (fi : Int) - be
    · have hg : ¬ (fi : Int) - be < c := by omega
      go_wp2_with fail
      go_ret2
      refine ⟨?_, rfl⟩
      first | rfl | (rw [if_pos (by omega)]; rfl)
    · have hg : (fi : Int) - be < c := by omega
      go_wp2_with fail
      go_ret2
      refine ⟨?_, rfl⟩
      first | rfl | (rw [if_neg (by omega)]; rfl)

set_option maxHeartbeats 400000 in
theorem rline_none (s : ByteArray) (i : Int) (w : World) (hs : s.size ≤ 100000) (h : i < 0 ∨ (nln s : Int) < i) (hb : i ≤ 9223372036854775807) :
    Calls Tryd.prog 36 #[.string s, .int .i64 i] w fun e w' => e = .returned (.tuple #[.string ⟨#[]⟩, .int .i64 9]) ∧ w = w' := by
  by_cases hn : i < 0
  · go_enter Tryd.func36, Tryd.ntmps36
    go_wp2_with fail
    go_ret2
    exact ⟨rfl, rfl⟩
  · obtain ⟨j, rfl⟩ := Int.eq_ofNat_of_zero_le (by omega : 0 ≤ i)
    have hc := rbegin_any s j w hs (by omega)
    rw [show rbeg s j = -1 from by unfold rbeg; rw [if_neg (by omega)]] at hc
    have HC := Lib.hid hc
    clear hc h
    go_enter Tryd.func36, Tryd.ntmps36
    go_wp2_with fail
    refine HC.out.mono ?_
    rintro e w1 ⟨rfl, rfl⟩
    go_wp2_with fail
    go_ret2
    exact ⟨rfl, rfl⟩

/-- cutting a carriage return at the end, by places -/
theorem lineL_last (l : List UInt8) (b e : Nat) : lineL l b e false = (l.drop b).take (e - b) := by unfold lineL; simp
theorem suffix_cr (x : List UInt8) : Lib.trimSuffix x [13] = if x.getLast? = some 13 then x.dropLast else x := by
  unfold Lib.trimSuffix Lib.hasSuffix
  rcases List.eq_nil_or_concat x with rfl | ⟨y, c, rfl⟩
  · rfl
  · have h1 : (y.concat c).getLast? = some c := by simp
    have h2 : List.isSuffixOf [13] (y.concat c) = (c == 13) := by
      rw [List.concat_eq_append]
      unfold List.isSuffixOf
      rw [List.reverse_append]
      show ((13 : UInt8) == c && true) = (c == 13)
      rw [Bool.and_true]
      exact Bool.eq_iff_iff.2 (by rw [beq_iff_eq, beq_iff_eq]; exact eq_comm)
    rw [h1, h2]
    by_cases hc : c = 13
    · subst hc; simp [List.dropLast_eq_take]
    · have : (c == 13) = false := by simpa using hc
      rw [this, if_neg (fun g => hc (Option.some.inj g)), if_neg (by simp)]
/-- the reference's end of a line: one byte less where a carriage return stands before the line feed -/
def rfin (s : ByteArray) (i : Nat) : Nat := if finS s i < s.size ∧ begS s i < finS s i ∧ s.data.toList[finS s i - 1]? = some 13 then finS s i - 1 else finS s i
theorem finS_more (s : ByteArray) (i : Nat) (hi : i ≤ nln s) : finS s i < s.size ↔ i < nln s := by
  constructor
  · intro h
    by_cases g : i < nln s
    · exact g
    · obtain rfl : i = nln s := by omega
      rw [finS_last] at h; omega
  · intro h
    have := (fin_nl s.data.toList i (by rw [len_eq]; exact h)).2
    rw [len_eq] at this; exact this
theorem lineL_rfin (s : ByteArray) (i : Nat) (hi : i ≤ nln s) : lineL s.data.toList (begS s i) (finS s i) (decide (i < nln s)) = (s.data.toList.drop (begS s i)).take (rfin s i - begS s i) := by
  have hbf := begS_finS s i hi
  have hfl := finS_le s i
  by_cases h : i < nln s
  · rw [decide_eq_true h]
    unfold lineL
    rw [if_pos rfl, suffix_cr]
    have hlen : ((s.data.toList.drop (begS s i)).take (finS s i - begS s i)).length = finS s i - begS s i := by rw [List.length_take, List.length_drop, len_eq]; omega
    have hlast : ((s.data.toList.drop (begS s i)).take (finS s i - begS s i)).getLast? = if begS s i < finS s i then s.data.toList[finS s i - 1]? else none := by
      rw [List.getLast?_eq_getElem?, hlen]
      by_cases g : begS s i < finS s i
      · rw [if_pos g, List.getElem?_take_of_lt (by omega), List.getElem?_drop]; congr 1; omega
      · rw [if_neg g, List.getElem?_eq_none (by omega)]
    rw [hlast]
    unfold rfin
    have hfs := (finS_more s i hi).2 h
    by_cases g : begS s i < finS s i
    · rw [if_pos g]
      by_cases c : s.data.toList[finS s i - 1]? = some 13
      · rw [if_pos c, if_pos ⟨hfs, g, c⟩, List.dropLast_eq_take, hlen, List.take_take]; congr 1; omega
      · rw [if_neg c, if_neg (fun x => c x.2.2)]
    · rw [if_neg g, if_neg (by simp), if_neg (fun x => g x.2.1)]
  · rw [decide_eq_false h, lineL_last]
    unfold rfin
    rw [if_neg (fun x => h ((finS_more s i hi).1 x.1))]

set_option maxRecDepth 100000 in
set_option maxHeartbeats 1000000 in
theorem rline_some (s : ByteArray) (i : Nat) (w : World) (hs : s.size ≤ 100000) (hi : i ≤ nln s) :
    Calls Tryd.prog 36 #[.string s, .int .i64 i] w fun e w' => e = .returned (.tuple #[.string ⟨((s.data.toList.drop (begS s i)).take (rfin s i - begS s i)).toArray⟩, .int .i64 0]) ∧ w = w' := by
  have hn := nln_le s
  have hb1 := begS_finS s i hi
  have hf1 := finS_le s i
  have hc := rbegin_any s i w hs (by omega)
  rw [show rbeg s i = begS s i from by unfold rbeg; rw [if_pos hi]] at hc
  have HC := Lib.hid hc
  have HE := Lib.hid (rend_any s i w hs hi)
  have HR : Hid (∀ x, x = rfin s i → x = if finS s i < s.size ∧ begS s i < finS s i ∧ s.data.toList[finS s i - 1]? = some 13 then finS s i - 1 else finS s i) := fun x hx => hx
  clear hc
  generalize nln s = n at *
  generalize rfin s i = rf at *
  have HR2 := HR.out rf rfl
  clear HR
  generalize finS s i = fi at *
  generalize begS s i = be at *
  have HX : Hid (s.extract be rf = ⟨((s.data.toList.drop be).take (rf - be)).toArray⟩) := Lib.extract_eq _ _ _
  by_cases hA : fi < s.size
  · by_cases hB : be < fi
    · have hg : fi - 1 < s.size := by omega
      by_cases hC : s[fi - 1] = 13
      · rw [if_pos ⟨hA, hB, by rw [getL s (fi - 1) hg, hC]⟩] at HR2
        obtain ⟨g, rfl⟩ : ∃ g, fi = g + 1 := ⟨fi - 1, by omega⟩
        have hgs : g < s.size := by omega
        have hC' : s[g] = 13 := hC
        have hcb : ((s[g].toNat : Int) == 13) = true := byte_eq _ _ hC'
        rw [Nat.add_sub_cancel] at HR2
        subst HR2
        clear hC hC'
        have hbr : be ≤ rf := by omega
        have hfr : rf ≤ s.size := by omega
        go_enter Tryd.func36, Tryd.ntmps36
        go_wp2_with fail
        refine HC.out.mono ?_
        rintro e w1 ⟨rfl, rfl⟩
        go_wp2_with fail
        refine HC.out.mono ?_
        rintro e w1 ⟨rfl, rfl⟩
        go_wp2_with fail
        refine HE.out.mono ?_
        rintro e w1 ⟨rfl, rfl⟩
        go_wp2_with fail
        go_ret2
        refine ⟨?_, rfl⟩
        rw [← HX.out]
        rfl
      · have hcb : ((s[fi - 1].toNat : Int) == 13) = false := byte_ne _ _ hC
        rw [if_neg (fun x => hC (by have := x.2.2; rw [getL s (fi - 1) hg] at this; exact Option.some.inj this))] at HR2
        subst HR2
        clear hC
        go_enter Tryd.func36, Tryd.ntmps36
        go_wp2_with fail
        refine HC.out.mono ?_
        rintro e w1 ⟨rfl, rfl⟩
        go_wp2_with fail
        refine HC.out.mono ?_
        rintro e w1 ⟨rfl, rfl⟩
        go_wp2_with fail
        refine HE.out.mono ?_
        rintro e w1 ⟨rfl, rfl⟩
        go_wp2_with fail
        go_ret2
        refine ⟨?_, rfl⟩
        rw [← HX.out]
        rfl
    · rw [if_neg (fun x => hB x.2.1)] at HR2
      subst HR2
      go_enter Tryd.func36, Tryd.ntmps36
      go_wp2_with fail
      refine HC.out.mono ?_
      rintro e w1 ⟨rfl, rfl⟩
      go_wp2_with fail
      refine HC.out.mono ?_
      rintro e w1 ⟨rfl, rfl⟩
      go_wp2_with fail
      refine HE.out.mono ?_
      rintro e w1 ⟨rfl, rfl⟩
      go_wp2_with fail
      go_ret2
      refine ⟨?_, rfl⟩
      rw [← HX.out]
      rfl
  · rw [if_neg (fun x => hA x.1)] at HR2
    subst HR2
    go_enter Tryd.func36, Tryd.ntmps36
    go_wp2_with fail
    refine HC.out.mono ?_
    rintro e w1 ⟨rfl, rfl⟩
    go_wp2_with fail
    refine HC.out.mono ?_
    rintro e w1 ⟨rfl, rfl⟩
    go_wp2_with fail
    refine HE.out.mono ?_
    rintro e w1 ⟨rfl, rfl⟩
    go_wp2_with fail
    go_ret2
    refine ⟨?_, rfl⟩
    rw [← HX.out]
    rfl
end Go.Proofs.YtmoljdgalonlpaaDoor
