/-
  Helper: the walk of PositionJoins: a loop over the lines.
-/
import Derived.Test.YtmoljdgalonlpaaDoorLawsPosB
namespace Go.Proofs.YtmoljdgalonlpaaDoor
open Go.RowKit
set_option linter.unusedVariables false

theorem rfin_bd (s : ByteArray) (i : Nat) (hi : i ≤ nln s) : begS s i ≤ rfin s i ∧ rfin s i ≤ finS s i ∧ finS s i ≤ rfin s i + 1 := by
  have := begS_finS s i hi
  unfold rfin
  by_cases h : finS s i < s.size ∧ begS s i < finS s i ∧ s.data.toList[finS s i - 1]? = some 13
  · rw [if_pos h]; omega
  · rw [if_neg h]; omega
/-- a line that is not the last one: its line feed; the carriage return that the reading left out -/
theorem line_end (s : ByteArray) (i : Nat) (hi : i < nln s) : ∃ h : finS s i < s.size, s[finS s i] = 10 ∧ begS s (i + 1) = finS s i + 1 ∧ (rfin s i = finS s i ∨ ∃ h2 : rfin s i < s.size, rfin s i + 1 = finS s i ∧ s[rfin s i] = 13) := by
  have h1 := fin_nl s.data.toList i (by rw [len_eq]; exact hi)
  have h2 : finS s i < s.size := by have := h1.2; rw [len_eq] at this; exact this
  refine ⟨h2, ?_, beg_succ _ _ (by rw [len_eq]; exact hi), ?_⟩
  · have := getL s (finS s i) h2
    exact Option.some.inj (this.symm.trans h1.1)
  · unfold rfin
    by_cases h : finS s i < s.size ∧ begS s i < finS s i ∧ s.data.toList[finS s i - 1]? = some 13
    · rw [if_pos h]
      refine .inr ⟨by omega, by omega, ?_⟩
      have := getL s (finS s i - 1) (by omega)
      exact Option.some.inj (this.symm.trans h.2.2)
    · rw [if_neg h]; exact .inl rfl

theorem line_ext (s : ByteArray) (a : Option Addr) (cap : Nat) (w : World) (hs : s.size ≤ 100000) (hr : Rd w a (nln s) (nlf s)) (i : Nat) (hi : i ≤ nln s) :
    Calls Tryd.prog 35 #[.agg #[.string s, .slice a (nln s) cap], .int .i64 i] w fun e w' => e = .returned (.tuple #[.string (s.extract (begS s i) (rfin s i)), .int .i64 0]) ∧ Below w.heap.size w w' := by
  have h := line_some s a cap w hs hr i hi
  rw [lineL_rfin s i hi, ← Lib.extract_eq] at h
  exact h
theorem offset_col0 (s : ByteArray) (a : Option Addr) (cap : Nat) (w : World) (hs : s.size ≤ 100000) (hr : Rd w a (nln s) (nlf s)) (i : Nat) (hi : i ≤ nln s) :
    Calls Tryd.prog 33 #[.agg #[.string s, .slice a (nln s) cap], .int .i64 i, .int .i64 0] w fun e w' => e = .returned (.tuple #[.int .i64 (begS s i), .int .i64 0]) ∧ Below w.heap.size w w' := by
  have hb := begS_finS s i hi
  have h := offset_some s a cap w hs hr i hi 0
  rw [if_pos (by omega), Int.add_zero] at h
  exact h

/-- where the reading stands at the head of round k -/
def atk (s : ByteArray) (k : Nat) : Nat := if k ≤ nln s then begS s k else s.size

set_option maxRecDepth 100000 in
set_option maxHeartbeats 4000000 in
theorem walkPositionJoins (w : World) (a : ByteArray) (h : a.size ≤ maxLen) :
    Calls Tryd.prog 13 #[.string a] w fun e w' => e = .returned (.bool true) ∧ Below w.heap.size w w' := by
  unfold maxLen at h
  by_cases hbig : a.size ≤ 500
  · go_enter Tryd.func13, Tryd.ntmps13
    go_wp2_with fail
    refine (of_rd a _ (by omega)).mono ?_
    rintro e w1 ⟨a', cap, rfl, hrd, hb1⟩
    have hnl := nln_le a
    have hB0 := Bx.new (cap := cap) (t := 51) hrd
    have hli := Lib.hid (fun w o ho hr => line_ext a a' cap w (by omega) hr o ho)
    have hof := Lib.hid (fun w o ho hr => offset_col0 a a' cap w (by omega) hr o ho)
    have hco := Lib.hid (fun w => count_any a a' (nln a) cap w (by omega))
    go_wp2_with fail
    refine (hco.out _).mono ?_
    rintro e w2 ⟨rfl, h2⟩
    have hB1 := hB0.keep h2
    clear hB0 h2
    go_wp2_with fail
    go_loopw [4, 18] (fun at' c wr => ∃ k : Nat, k ≤ nln a + 1 ∧ c = .int .i64 k ∧ at' = .int .i64 (atk a k) ∧ Bx w1 w1.heap.size a a' cap wr) (fun _ c _ => nln a + 1 - (intOf c).toNat)
    case atStart => exact ⟨0, Nat.zero_le _, rfl, rfl, hB1⟩
    case round =>
      clear hB1
      obtain ⟨k, hk, rfl, rfl, hB⟩ := hrel
      obtain ⟨c0, c1, HK⟩ := hB
      have HK2 := Lib.hid HK
      clear HK
      by_cases hlt : k < nln a + 1
      · have hkn : k ≤ nln a := by omega
        obtain ⟨hr1, hr2, hr3⟩ := rfin_bd a k hkn
        have hr4 := finS_le a k
        have hLI := Lib.hid (fun w hr => hli.out w k hkn hr)
        have hOF := Lib.hid (fun w hr => hof.out w k hkn hr)
        have hE : Hid (k < nln a → ∃ h : finS a k < a.size, a[finS a k] = 10 ∧ begS a (k + 1) = finS a k + 1 ∧ (rfin a k = finS a k ∨ ∃ h2 : rfin a k < a.size, rfin a k + 1 = finS a k ∧ a[rfin a k] = 13)) := fun hx => line_end a k hx
        have hZ : Hid (¬ k < nln a → rfin a k = a.size) := fun hx => by
          obtain rfl : k = nln a := by omega
          have hf := finS_last a
          unfold rfin
          rw [if_neg (by omega)]; exact hf
        have hN : Hid (atk a (k + 1) = if k < nln a then begS a (k + 1) else a.size) := by
          unfold atk
          by_cases hx : k < nln a
          · rw [if_pos (by omega), if_pos hx]; exact rfl
          · rw [if_neg (by omega), if_neg hx]; exact rfl
        have hat0 : atk a k = begS a k := by unfold atk; rw [if_pos hkn]
        rw [hat0]
        clear hat0
        have hsz : (a.extract (begS a k) (rfin a k)).size = rfin a k - begS a k := by rw [ByteArray.size_extract]; omega
        generalize finS a k = f at *
        generalize begS a k = b at *
        generalize rfin a k = r at *
        have HT : Hid (∃ t m, t = a.extract b r ∧ t.size = m ∧ b + m = r) := ⟨_, _, rfl, hsz, by omega⟩
        clear hsz
        obtain ⟨t, m, hX, hts, hbm⟩ := HT.out
        rw [← hX] at hLI
        have hX' : a.extract b r = t := hX.symm
        clear hX HT
        have hrf : (b : Int) + (m : Int) = (r : Int) := by omega
        have hXH := Lib.hid hX'
        have htsH := Lib.hid hts
        have hrfH := Lib.hid hrf
        clear hX' hts hrf
        have hmle : ¬ (a.size : Int) - (b : Int) < (m : Int) := by omega
        have hra : r ≤ a.size := by omega
        go_wp2_with fail
        have hB : Bx w1 w1.heap.size a a' cap wr := ⟨c0, c1, HK2.out⟩
        clear c0 c1 HK2
        refine (hLI.out _ hB.rd).mono ?_
        rintro e w3 ⟨rfl, h3⟩
        obtain ⟨c0, c1, HK⟩ := hB.keep h3
        have HK2 := Lib.hid HK
        clear HK hB h3
        go_wp2_with fail
        have hB : Bx w1 w1.heap.size a a' cap w3 := ⟨c0, c1, HK2.out⟩
        clear c0 c1 HK2
        refine (hOF.out _ hB.rd).mono ?_
        rintro e w4 ⟨rfl, h3⟩
        obtain ⟨c0, c1, HK⟩ := hB.keep h3
        have HK2 := Lib.hid HK
        clear HK hB h3
        have hX' := hXH.out
        have hts := htsH.out
        have hrf := hrfH.out
        go_wp2_with fail
        clear hX' hts hrf hmle
        have hB : Bx w1 w1.heap.size a a' cap w4 := ⟨c0, c1, HK2.out⟩
        clear c0 c1 HK2
        refine (hco.out _).mono ?_
        rintro e w5 ⟨rfl, h3⟩
        have hB5 := Lib.hid (hB.keep h3)
        clear hB h3
        by_cases hkl : k < nln a
        · obtain ⟨hfs, hf10, hbs, hcr⟩ := hE.out hkl
          have hN2 : Hid (atk a (k + 1) = f + 1) := by rw [hN.out, if_pos hkl]; exact hbs
          clear hbs hN hE hZ
          rcases hcr with rfl | ⟨hrs, hrf1, hr13⟩
          · have q1 : ((a[r].toNat : Int) == 10) = true := byte_eq _ _ hf10
            have q2 : ((a[r].toNat : Int) != 10) = false := by rw [bne, q1]; rfl
            have q3 : ((a[r].toNat : Int) == 13) = false := byte_ne a[r] 13 (by rw [hf10]; decide)
            clear hf10
            go_wp2_with fail
            go_roundw
            case rel => exact ⟨k + 1, by omega, by go_num, by rw [hN2.out]; go_num, hB5.out⟩
            case measure => simp [intOf]; omega
          · subst hrf1
            have q1 : ((a[r + 1].toNat : Int) == 10) = true := byte_eq _ _ hf10
            have q2 : ((a[r + 1].toNat : Int) != 10) = false := by rw [bne, q1]; rfl
            have q3 : ((a[r].toNat : Int) == 13) = true := byte_eq _ _ hr13
            clear hf10 hr13
            go_wp2_with fail
            go_roundw
            case rel => exact ⟨k + 1, by omega, by go_num, by rw [hN2.out]; exact congrArg (Value.int .i64) (by omega), hB5.out⟩
            case measure => simp [intOf]; omega
        · have hN2 : Hid (atk a (k + 1) = r) := by rw [hN.out, if_neg hkl]; exact (hZ.out hkl).symm
          clear hN hE hZ
          go_wp2_with fail
          go_roundw
          case rel => exact ⟨k + 1, by omega, by go_num, by rw [hN2.out], hB5.out⟩
          case measure => simp [intOf]; omega
      · obtain rfl : k = nln a + 1 := by omega
        have hat0 : atk a (nln a + 1) = a.size := by unfold atk; rw [if_neg (by omega)]
        rw [hat0]
        clear hat0
        go_wp2_with fail
        refine (awake_any _).mono ?_
        rintro e w3 ⟨rfl, h3⟩
        go_wp2_with fail
        go_ret
        refine ⟨by simp, hb1.trans ?_⟩
        have hb5 : Below w1.heap.size w1 wr := HK2.out.2.1
        refine (hb5.mono hb1.size).trans (h3.mono ?_)
        have := hb5.size
        have := hb1.size
        omega
  · have hgt : (500 : Int) < a.size := by omega
    go_enter Tryd.func13, Tryd.ntmps13
    go_wp2_with fail
    refine (awake_any _).mono ?_
    rintro e w1 ⟨rfl, hb⟩
    go_wp2_with fail
    go_ret
    exact ⟨rfl, hb⟩
end Go.Proofs.YtmoljdgalonlpaaDoor
