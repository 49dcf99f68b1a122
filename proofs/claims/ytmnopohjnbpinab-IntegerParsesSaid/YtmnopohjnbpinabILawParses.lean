/-
  Helper: the walk of the statement IntegerParses.
-/
import Derived.Test.YtmnopohjnbpinabIRefParse
import Derived.Test.YtmnopohjnbpinabIRefValid
import Derived.Test.YtmnopohjnbpinabIAgree
import Derived.Test.YtmnopohjnbpinabILawTexts
namespace Go.Proofs.Ytmnopohjnbpinab
open Go.RowKit
set_option linter.unusedVariables false

theorem sh_zi_iff (b : Bool) (m : Nat) : Sh (zi b m) ↔ (E 10 m).length ≤ 400 := by unfold Sh; rw [zi_abs]
/-- both of them refuse with the same error, or both of them read the same number -/
theorem parses_both (s : ByteArray) (b : Int) (hs : s.size ≤ 1500) :
    (∃ k : Int, k ≠ 0 ∧ (∀ W, Calls Try.prog 9 #[.string s, .int .i64 b] W (StrE k W)) ∧ (∀ W, Calls Try.prog 10 #[.string s, .int .i64 b] W (RzP k W))) ∨
    (∃ z : Int, Sh z ∧ (∀ W, Calls Try.prog 9 #[.string s, .int .i64 b] W (StrP z W)) ∧ (∀ W, Calls Try.prog 10 #[.string s, .int .i64 b] W (RnP z W))) := by
  rcases isB_cases b with hB | ⟨hB, _⟩
  · have hbn := isB_nat b hB
    obtain ⟨B, rfl⟩ : ∃ B : Nat, b = B := ⟨b.toNat, by omega⟩
    have hP := fun W => Parse_go s B hB (by omega) (by omega) W (by omega)
    have hR := fun W => rparse_any s B hB (by omega) (by omega) W hs
    by_cases hbad : prest s.data.toList = [] ∨ ∃ i, i < (prest s.data.toList).length ∧ B ≤ dgc ((prest s.data.toList).getD i 0)
    · exact .inl ⟨3, by decide, fun W => (hP W).mono fun e w' h => h.1 hbad, fun W => (hR W).mono fun e w' h => h.1 hbad⟩
    · have hgood : prest s.data.toList ≠ [] ∧ ∀ i, i < (prest s.data.toList).length → dgc ((prest s.data.toList).getD i 0) < B :=
        ⟨fun e => hbad (.inl e), fun i hi => Classical.byContradiction fun g => hbad (.inr ⟨i, hi, by omega⟩)⟩
      by_cases hsh : (E 10 (vm B (pdig (prest s.data.toList)))).length ≤ 400
      · exact .inr ⟨_, (sh_zi_iff _ _).2 hsh, fun W => (hP W).mono fun e w' h => (h.2 hgood).1 hsh, fun W => (hR W).mono fun e w' h => (h.2 hgood).1 ((sh_zi_iff _ _).2 hsh)⟩
      · exact .inl ⟨6, by decide, fun W => (hP W).mono fun e w' h => (h.2 hgood).2 (by omega), fun W => (hR W).mono fun e w' h => (h.2 hgood).2 (fun g => hsh ((sh_zi_iff _ _).1 g))⟩
  · exact .inl ⟨1, by decide, fun W => Parse_arg s b W hB, fun W => rparse_nob s b hB W⟩

set_option maxRecDepth 100000 in
set_option maxHeartbeats 8000000 in
theorem walkIntegerParses (w : World) (s : ByteArray) (hs : s.size ≤ maxLen) (b : Int) (hbw : (Lit.int .i64 b).wf = true) :
    Calls Try.prog 3 #[.string s, .int .i64 b] w (TrueP w) := by
  have HF : Hid (∀ w', Below w.heap.size w w' → TrueP w (.returned (.bool true)) w') := Lib.hid fun w' h => ⟨rfl, h⟩
  have HV : Hid (∀ W, Calls Try.prog 12 #[.string s] W fun e w' => e = .returned (.bool (vldB s.data.toList)) ∧ W = w') := Lib.hid (fun W => valid_any s W hs)
  have hmx : s.size ≤ 1000000 → Hid (∀ W, Calls Try.prog 13 #[.string s] W fun e w' => e = .returned (.bool (vldB s.data.toList)) ∧ W = w') := fun h => Lib.hid fun W => refValid_any s W h
  clear hbw
  generalize vldB s.data.toList = vb at *
  generalize TrueP w = Po at *
  by_cases h15 : s.size ≤ 1500
  · have HRV := hmx (by omega)
    have hgt : decide ((1500 : Int) < (s.size : Int)) = false := decide_eq_false (by omega)
    have hle : (s.size : Int) ≤ 1500 := by omega
    rcases parses_both s b h15 with ⟨k, hk, hP, hR⟩ | ⟨z, hz, hP, hR⟩
    · have HP := Lib.hid hP
      have HR := Lib.hid hR
      have HAG := Lib.hid (fun W => agree_no k hk none 0 0 false W)
      have hkn : (k != 0) = true := by rw [bne_iff_ne]; exact hk
      clear hP hR hmx hk h15 hs
      go_enter Try.func3, Try.ntmps3
      go_wp2_with fail
      refine (HP.out _).mono ?_
      rintro e w1 ⟨rfl, h1⟩
      have H1 := Lib.hid h1
      clear h1
      go_wp2_with fail
      refine (HR.out _).mono ?_
      rintro e w2 ⟨rfl, h2⟩
      have H2 : Hid (Below w.heap.size w w2) := Lib.hid (H1.out.trans (h2.mono H1.out.size))
      clear H1 h2
      go_wp2_with fail
      refine (HAG.out _).mono ?_
      rintro e w3 ⟨rfl, h3⟩
      have H3 : Hid (Below w.heap.size w w3) := Lib.hid ((H2.out.alloc H2.out.size _).trans (h3.mono (by have := H2.out.size; simp; omega)))
      clear H2 h3
      go_wp2_with fail
      refine (HV.out _).mono ?_
      rintro e w4 ⟨rfl, hw4⟩
      obtain rfl := hw4.symm
      go_wp2_with fail
      refine (HRV.out _).mono ?_
      rintro e w4 ⟨rfl, hw4⟩
      obtain rfl := hw4.symm
      go_wp2_with fail
      refine (awake_any _).mono ?_
      rintro e w5 ⟨rfl, h5⟩
      have hfin := Lib.hid (HF.out _ (H3.out.trans (h5.mono H3.out.size)))
      clear h5
      go_wp2
      exact hfin.out
    · have HP : Hid (∀ W, Calls Try.prog 9 #[.string s, .int .i64 b] W fun e w' => e = .returned (.tuple #[.string (TB z), .int .i64 0]) ∧ Below W.heap.size W w') := Lib.hid hP
      have HR := Lib.hid hR
      have HAG := Lib.hid (fun a cap W hr => agree_ok z hz a cap W hr)
      have HVN : Hid (∀ W, Calls Try.prog 12 #[.string (TB z)] W fun e w' => e = .returned (.bool true) ∧ W = w') := Lib.hid fun W => (valid_any (TB z) W (by
        have h1 : (TB z).size = (T z).length := by unfold TB; simp [ByteArray.size]
        have h2 := T_len z hz
        unfold maxLen; omega)).mono fun e w' h => ⟨h.1.trans (by rw [TB_list, vldB_yes _ (vld_T z hz)]), h.2⟩
      clear hP hR hmx h15 hs hz
      generalize TB z = tz at *
      go_enter Try.func3, Try.ntmps3
      go_wp2_with fail
      refine (HP.out _).mono ?_
      rintro e w1 ⟨rfl, h1⟩
      have H1 := Lib.hid h1
      clear h1
      go_wp2_with fail
      refine (HR.out _).mono ?_
      rintro e w2 ⟨ra, rc, rfl, hr2, h2⟩
      have H2 : Hid (Below w.heap.size w w2) := Lib.hid (H1.out.trans (h2.mono H1.out.size))
      have HR2 := Lib.hid (fun o => hr2.go ((Below.refl _ w2).alloc (Nat.le_refl _) o))
      clear H1 h2 hr2
      go_wp2_with fail
      refine (HAG.out ra rc _ (HR2.out _)).mono ?_
      rintro e w3 ⟨rfl, h3⟩
      have H3 : Hid (Below w.heap.size w w3) := Lib.hid ((H2.out.alloc H2.out.size _).trans (h3.mono (by have := H2.out.size; simp; omega)))
      clear H2 h3 HR2
      go_wp2_with fail
      refine (HV.out _).mono ?_
      rintro e w4 ⟨rfl, hw4⟩
      obtain rfl := hw4.symm
      go_wp2_with fail
      refine (HRV.out _).mono ?_
      rintro e w4 ⟨rfl, hw4⟩
      obtain rfl := hw4.symm
      go_wp2_with fail
      refine (HVN.out _).mono ?_
      rintro e w4 ⟨rfl, hw4⟩
      obtain rfl := hw4.symm
      go_wp2_with fail
      refine (awake_any _).mono ?_
      rintro e w5 ⟨rfl, h5⟩
      have hfin := Lib.hid (HF.out _ (H3.out.trans (h5.mono H3.out.size)))
      clear h5
      go_wp2
      exact hfin.out
  · have hgt : (1500 : Int) < (s.size : Int) := by omega
    clear HV hmx hs
    go_enter Try.func3, Try.ntmps3
    go_wp2_with fail
    refine (awake_any _).mono ?_
    rintro e w1 ⟨rfl, h1⟩
    have hfin := Lib.hid (HF.out _ h1)
    clear h1
    go_wp2
    exact hfin.out
end Go.Proofs.Ytmnopohjnbpinab
