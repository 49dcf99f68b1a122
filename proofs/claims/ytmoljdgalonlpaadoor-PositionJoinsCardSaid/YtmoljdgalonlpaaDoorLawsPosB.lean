/-
  Helper: the walks of PositionBack and PositionJoins: two loops over the offsets and over the lines.
-/
import Derived.Test.YtmoljdgalonlpaaDoorLawsPos
namespace Go.Proofs.YtmoljdgalonlpaaDoor
open Go.RowKit
set_option linter.unusedVariables false

theorem at_off (s : ByteArray) (o : Nat) (ho : o ≤ s.size) : cnt s.data.toList o ≤ nln s ∧ begS s (cnt s.data.toList o) ≤ o ∧ o ≤ finS s (cnt s.data.toList o) := by
  have h1 : cnt s.data.toList o ≤ nln s := cnt_mono _ _ _ ho
  refine ⟨h1, beg_le _ _ (by rw [len_eq]; exact ho), ?_⟩
  -- if the line ended before o, its line feed would be counted
  have hfl := finS_le s (cnt s.data.toList o)
  by_cases h : cnt s.data.toList o < nln s
  · have hf := fin_nl s.data.toList (cnt s.data.toList o) (by rw [len_eq]; exact h)
    by_cases g : o ≤ finS s (cnt s.data.toList o)
    · exact g
    · have hs := cnt_beg s.data.toList (cnt s.data.toList o + 1) (by rw [len_eq]; exact h)
      rw [beg_succ _ _ (by rw [len_eq]; exact h)] at hs
      have hm := cnt_mono s.data.toList (fin s.data.toList (cnt s.data.toList o) + 1) o (by unfold finS at g; omega)
      omega
  · have : cnt s.data.toList o = nln s := by omega
    rw [this, finS_last]; exact ho

theorem offset_back (s : ByteArray) (a : Option Addr) (cap : Nat) (w : World) (hs : s.size ≤ 100000) (hr : Rd w a (nln s) (nlf s)) (o : Nat) (ho : o ≤ s.size) :
    Calls Tryd.prog 33 #[.agg #[.string s, .slice a (nln s) cap], .int .i64 (cnt s.data.toList o), .int .i64 ((o : Int) - begS s (cnt s.data.toList o))] w fun e w' => e = .returned (.tuple #[.int .i64 o, .int .i64 0]) ∧ Below w.heap.size w w' := by
  obtain ⟨h1, h2, h3⟩ := at_off s o ho
  have h := offset_some s a cap w hs hr (cnt s.data.toList o) h1 ((o : Int) - begS s (cnt s.data.toList o))
  rw [if_pos (by omega), show (begS s (cnt s.data.toList o) : Int) + ((o : Int) - begS s (cnt s.data.toList o)) = o from by omega] at h
  exact h

set_option maxHeartbeats 2000000 in
theorem walkPositionBack (w : World) (a : ByteArray) (h : a.size ≤ maxLen) :
    Calls Tryd.prog 12 #[.string a] w fun e w' => e = .returned (.bool true) ∧ Below w.heap.size w w' := by
  unfold maxLen at h
  by_cases hbig : a.size ≤ 500
  · go_enter Tryd.func12, Tryd.ntmps12
    go_wp2_with fail
    refine (of_rd a _ (by omega)).mono ?_
    rintro e w1 ⟨a', cap, rfl, hrd, hb1⟩
    have hnl := nln_le a
    have hB0 := Bx.new (cap := cap) (t := 51) hrd
    have hat := Lib.hid (fun w o ho hr => at_some a a' cap w (by omega) hr o ho)
    have hof := Lib.hid (fun w o ho hr => offset_back a a' cap w (by omega) hr o ho)
    have hco := Lib.hid (fun w => count_any a a' (nln a) cap w (by omega))
    have han := Lib.hid (fun w => at_none a a' (nln a) cap w (by omega) ((a.size : Int) + 1) (by omega))
    have hcn : Hid (∀ k, k ≤ a.size → cnt a.data.toList k ≤ nln a) := fun k hk => cnt_mono _ _ _ hk
    go_wp2_with fail
    go_loopw [22] (fun c wr => ∃ k : Nat, k ≤ a.size + 1 ∧ c = .int .i64 k ∧ Bx w1 w1.heap.size a a' cap wr) (fun c _ => a.size + 1 - (intOf c).toNat)
    case atStart => exact ⟨0, Nat.zero_le _, rfl, hB0⟩
    case round =>
      clear hB0
      obtain ⟨k, hk, rfl, hB⟩ := hrel
      obtain ⟨c0, c1, HK⟩ := hB
      have HK2 := Lib.hid HK
      clear HK
      by_cases hlt : k < a.size + 1
      · have hc1 := hcn.out k (by omega)
        go_wp2_with fail
        have hB : Bx w1 w1.heap.size a a' cap wr := ⟨c0, c1, HK2.out⟩
        clear c0 c1 HK2
        refine (hat.out _ k (by omega) hB.rd).mono ?_
        rintro e w3 ⟨rfl, h3⟩
        obtain ⟨c0, c1, HK⟩ := hB.keep h3
        have HK2 := Lib.hid HK
        clear HK hB h3
        go_wp2_with fail
        have hB : Bx w1 w1.heap.size a a' cap w3 := ⟨c0, c1, HK2.out⟩
        clear c0 c1 HK2
        refine (hof.out _ k (by omega) hB.rd).mono ?_
        rintro e w4 ⟨rfl, h3⟩
        obtain ⟨c0, c1, HK⟩ := hB.keep h3
        have HK2 := Lib.hid HK
        clear HK hB h3
        go_wp2_with fail
        refine (hco.out _).mono ?_
        rintro e w5 ⟨rfl, h3⟩
        have hB : Bx w1 w1.heap.size a a' cap w4 := ⟨c0, c1, HK2.out⟩
        have hB5 := Lib.hid (hB.keep h3)
        clear c0 c1 HK2 h3 hB
        go_wp2_with fail
        go_roundw
        case rel => exact ⟨k + 1, by omega, by go_num, hB5.out⟩
        case measure => simp [intOf]; omega
      · obtain rfl : k = a.size + 1 := by omega
        go_wp2_with fail
        have hB : Bx w1 w1.heap.size a a' cap wr := ⟨c0, c1, HK2.out⟩
        refine (han.out _).mono ?_
        rintro e w3 ⟨rfl, h3⟩
        go_wp2_with fail
        refine (awake_any _).mono ?_
        rintro e w4 ⟨rfl, h4⟩
        go_wp2_with fail
        go_ret
        refine ⟨rfl, hb1.trans ?_⟩
        have hb5 : Below w1.heap.size w1 w3 := (hB.keep h3).bel
        refine (hb5.mono hb1.size).trans (h4.mono ?_)
        have := hb5.size
        have := hb1.size
        omega
  · have hgt : (500 : Int) < a.size := by omega
    go_enter Tryd.func12, Tryd.ntmps12
    go_wp2_with fail
    refine (awake_any _).mono ?_
    rintro e w1 ⟨rfl, hb⟩
    go_wp2_with fail
    go_ret
    exact ⟨rfl, hb⟩
end Go.Proofs.YtmoljdgalonlpaaDoor
