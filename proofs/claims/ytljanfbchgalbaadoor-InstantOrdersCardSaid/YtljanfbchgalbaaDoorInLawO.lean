/-
  Helper: the walk of the statement InstantOrders.
-/
import Derived.Test.YtljanfbchgalbaaDoorInAwF
namespace Go.Proofs.YtljanfbchgalbaaDoor
open Go.RowKit
set_option linter.unusedVariables false

theorem sec_ok (s : ByteArray) (n : Int) (m : Nat) (h : secF s = (n, m, 0)) : OfR n m s 0 := by
  unfold secF secG at h
  split at h <;> rename_i c
  · have e1 : (momF (rd s.data.toList)).1 = n := congrArg Prod.fst h
    have e2 : (momF (rd s.data.toList)).2.1 = m := congrArg (fun x => x.2.1) h
    rw [← e1, ← e2]; exact c.2
  · have e3 : (3 : Int) = 0 := congrArg (fun x => x.2.2) h
    omega
theorem sec_inj (a b : ByteArray) (n : Int) (m : Nat) (h : secF a = (n, m, 0)) (h' : secF b = (n, m, 0)) : a = b := ((sec_ok a n m h).det (sec_ok b n m h')).1
def CmpC (a b : ByteArray) (c : Int) : Prop := ∀ W, Tabs W → Calls Tryd.prog 23 #[.string a, .string b] W fun e w' => e = .returned (.int .i64 c) ∧ Below W.heap.size W w'
set_option maxRecDepth 100000 in
set_option maxHeartbeats 8000000 in
theorem walkInstantOrders (w : World) (hT : Tabs w) (a : ByteArray) (ha : a.size ≤ maxLen) (b : ByteArray) (hb : b.size ≤ maxLen) : Calls Tryd.prog 7 #[.string a, .string b] w (BoolW true w) := by
  have HA := Lib.hid (awake_any w hT)
  unfold BoolW at HA
  have HT : Hid (∀ W, Below w.heap.size w W → Tabs W) := fun W hb => hT.below hb hT.1
  have HF : Hid (∀ w', Below w.heap.size w w' → BoolW true w (.returned (.bool true)) w') := fun w' h => ⟨rfl, h⟩
  generalize BoolW true w = Po at *
  clear hT
  unfold maxLen at ha hb
  have ha2 : (a.size : Int) ≤ 9223372036854775807 := by omega
  have hb2 : (b.size : Int) ≤ 9223372036854775807 := by omega
  by_cases la : 200 < a.size
  · have la2 : (200 : Int) < (a.size : Int) := by omega
    go_enter Tryd.func7, Tryd.ntmps7
    go_wp2_with fail
    refine HA.out.mono ?_
    rintro e w1 ⟨rfl, hb1⟩
    have hfin := Lib.hid (HF.out _ hb1)
    clear hb1
    go_wp2
    exact hfin.out
  by_cases lb : 200 < b.size
  · have lb2 : (200 : Int) < (b.size : Int) := by omega
    have la3 : ¬ (200 : Int) < (a.size : Int) := by omega
    go_enter Tryd.func7, Tryd.ntmps7
    go_wp2_with fail
    refine HA.out.mono ?_
    rintro e w1 ⟨rfl, hb1⟩
    have hfin := Lib.hid (HF.out _ hb1)
    clear hb1
    go_wp2
    exact hfin.out
  have la3 : ¬ (200 : Int) < (a.size : Int) := by omega
  have lb3 : ¬ (200 : Int) < (b.size : Int) := by omega
  have H1 := Lib.hid (fun W hW => Seconds_any a W hW (by omega))
  have H2 := Lib.hid (fun W hW => Seconds_any b W hW (by omega))
  have HCab : Hid (∀ m1 m2, secF a = m1 → secF b = m2 → CmpC a b (if m1.2.2 ≠ 0 ∨ m2.2.2 ≠ 0 then 0 else if cm m1.1 m2.1 = 0 then cm m1.2.1 m2.2.1 else cm m1.1 m2.1)) := fun m1 m2 e1 e2 W hW => Cmp_any a b W hW (by omega) (by omega) m1 m2 e1 e2 _ rfl
  have HCba : Hid (∀ m1 m2, secF a = m1 → secF b = m2 → CmpC b a (if m2.2.2 ≠ 0 ∨ m1.2.2 ≠ 0 then 0 else if cm m2.1 m1.1 = 0 then cm m2.2.1 m1.2.1 else cm m2.1 m1.1)) := fun m1 m2 e1 e2 W hW => Cmp_any b a W hW (by omega) (by omega) m2 m1 e2 e1 _ rfl
  have HJ : Hid (∀ n m, secF a = (n, m, 0) → secF b = (n, m, 0) → a = b) := fun n m h h' => sec_inj a b n m h h'
  have HE : Hid (a = b → secF a = secF b) := fun h => by rw [h]
  clear ha hb la lb
  obtain ⟨m1, e1⟩ : ∃ m1, secF a = m1 := ⟨_, rfl⟩
  obtain ⟨m2, e2⟩ : ∃ m2, secF b = m2 := ⟨_, rfl⟩
  have D1 := HCab.out m1 m2 e1 e2
  have D2 := HCba.out m1 m2 e1 e2
  rw [e1] at H1 HJ HE
  rw [e2] at H2 HJ HE
  clear HCab HCba e1 e2
  obtain ⟨n, m, e⟩ := m1
  obtain ⟨x, y, f⟩ := m2
  replace H1 : Hid (∀ W, Tabs W → Calls Tryd.prog 17 #[.string a] W fun e' w' => e' = .returned (.tuple #[.int .i64 n, .int .i64 m, .int .i64 e]) ∧ Below W.heap.size W w') := H1
  replace H2 : Hid (∀ W, Tabs W → Calls Tryd.prog 17 #[.string b] W fun e' w' => e' = .returned (.tuple #[.int .i64 x, .int .i64 y, .int .i64 f]) ∧ Below W.heap.size W w') := H2
  replace D1 : CmpC a b (if e ≠ 0 ∨ f ≠ 0 then 0 else if cm n x = 0 then cm m y else cm n x) := D1
  replace D2 : CmpC b a (if f ≠ 0 ∨ e ≠ 0 then 0 else if cm x n = 0 then cm y m else cm x n) := D2
  by_cases hef : e ≠ 0 ∨ f ≠ 0
  · rw [if_pos hef] at D1
    have C1 := Lib.hid D1
    clear D1 D2 HJ HE
    unfold CmpC at C1
    by_cases he : e = 0
    · have hf : ¬ f = 0 := by omega
      subst he
      clear hef
      go_enter Tryd.func7, Tryd.ntmps7
      go_wp2_with fail
      refine HA.out.mono ?_
      rintro e9 w1 ⟨rfl, hb1⟩
      have hB1 : Hid (Below w.heap.size w w1) := hb1
      clear hb1
      go_wp2_with fail
      refine (H1.out _ (HT.out _ hB1.out)).mono ?_
      rintro e9 w2 ⟨rfl, hb2⟩
      have hB2 := bt hB1 hb2
      clear hb2
      go_wp2_with fail
      refine (H2.out _ (HT.out _ hB2.out)).mono ?_
      rintro e9 w3 ⟨rfl, hb3⟩
      have hB3 := bt hB2 hb3
      clear hb3
      go_wp2_with fail
      refine (C1.out _ (HT.out _ hB3.out)).mono ?_
      rintro e9 w4 ⟨rfl, hb4⟩
      have hB4 := bt hB3 hb4
      have hfin := Lib.hid (HF.out _ hB4.out)
      clear hb4
      go_wp2
      exact hfin.out
    · clear hef
      go_enter Tryd.func7, Tryd.ntmps7
      go_wp2_with fail
      refine HA.out.mono ?_
      rintro e9 w1 ⟨rfl, hb1⟩
      have hB1 : Hid (Below w.heap.size w w1) := hb1
      clear hb1
      go_wp2_with fail
      refine (H1.out _ (HT.out _ hB1.out)).mono ?_
      rintro e9 w2 ⟨rfl, hb2⟩
      have hB2 := bt hB1 hb2
      clear hb2
      go_wp2_with fail
      refine (H2.out _ (HT.out _ hB2.out)).mono ?_
      rintro e9 w3 ⟨rfl, hb3⟩
      have hB3 := bt hB2 hb3
      clear hb3
      go_wp2_with fail
      refine (C1.out _ (HT.out _ hB3.out)).mono ?_
      rintro e9 w4 ⟨rfl, hb4⟩
      have hB4 := bt hB3 hb4
      have hfin := Lib.hid (HF.out _ hB4.out)
      clear hb4
      go_wp2
      exact hfin.out
  · obtain rfl : e = 0 := by omega
    obtain rfl : f = 0 := by omega
    rw [if_neg hef] at D1
    rw [if_neg (by omega)] at D2
    clear hef
    rcases Int.lt_trichotomy n x with hn | hn | hn
    · have v1 : (if cm n x = 0 then cm m y else cm n x) = -1 := by unfold cm; rw [if_pos hn, if_neg (by omega)]
      have v2 : (if cm x n = 0 then cm y m else cm x n) = 1 := by unfold cm; rw [if_neg (show ¬ x < n by omega), if_pos hn, if_neg (by omega)]
      have hab : ¬ a = b := fun h => absurd (congrArg (fun p : Int × Nat × Int => p.1) (HE.out h)) (by show ¬ n = x; omega)
      rw [v1] at D1
      rw [v2] at D2
      have C1 := Lib.hid D1
      have C2 := Lib.hid D2
      have hts := str_ne hab
      clear D1 D2 v1 v2 HJ HE hab
      unfold CmpC at C1 C2
      go_enter Tryd.func7, Tryd.ntmps7
      go_wp2_with fail
      refine HA.out.mono ?_
      rintro e w1 ⟨rfl, hb1⟩
      have hB1 : Hid (Below w.heap.size w w1) := hb1
      clear hb1
      go_wp2_with fail
      refine (H1.out _ (HT.out _ hB1.out)).mono ?_
      rintro e w2 ⟨rfl, hb2⟩
      have hB2 := bt hB1 hb2
      clear hb2
      go_wp2_with fail
      refine (H2.out _ (HT.out _ hB2.out)).mono ?_
      rintro e w3 ⟨rfl, hb3⟩
      have hB3 := bt hB2 hb3
      clear hb3
      go_wp2_with fail
      refine (C1.out _ (HT.out _ hB3.out)).mono ?_
      rintro e w4 ⟨rfl, hb4⟩
      have hB4 := bt hB3 hb4
      have hfin := Lib.hid (HF.out _ hB4.out)
      clear hb4
      go_wp2_with fail
      refine (C2.out _ (HT.out _ hB4.out)).mono ?_
      rintro e w5 ⟨rfl, hb5⟩
      have hfin2 := Lib.hid (HF.out _ (bt hB4 hb5).out)
      clear hb5
      go_wp2
      exact hfin2.out
    · subst hn
      have v0 : cm n n = 0 := by unfold cm; rw [if_neg (by omega), if_neg (by omega)]
      rw [if_pos v0] at D1 D2
      clear v0
      rcases Nat.lt_trichotomy m y with hm | hm | hm
      · have v1 : cm m y = -1 := by unfold cm; rw [if_pos (by omega)]
        have v2 : cm y m = 1 := by unfold cm; rw [if_neg (by omega), if_pos (by omega)]
        have hab : ¬ a = b := fun h => absurd (congrArg (fun p : Int × Nat × Int => p.2.1) (HE.out h)) (by show ¬ m = y; omega)
        have hmi : (m : Int) < (y : Int) := by omega
        rw [v1] at D1
        rw [v2] at D2
        have C1 := Lib.hid D1
        have C2 := Lib.hid D2
        have hts := str_ne hab
        clear D1 D2 v1 v2 HJ HE hab
        unfold CmpC at C1 C2
        go_enter Tryd.func7, Tryd.ntmps7
        go_wp2_with fail
        refine HA.out.mono ?_
        rintro e w1 ⟨rfl, hb1⟩
        have hB1 : Hid (Below w.heap.size w w1) := hb1
        clear hb1
        go_wp2_with fail
        refine (H1.out _ (HT.out _ hB1.out)).mono ?_
        rintro e w2 ⟨rfl, hb2⟩
        have hB2 := bt hB1 hb2
        clear hb2
        go_wp2_with fail
        refine (H2.out _ (HT.out _ hB2.out)).mono ?_
        rintro e w3 ⟨rfl, hb3⟩
        have hB3 := bt hB2 hb3
        clear hb3
        go_wp2_with fail
        refine (C1.out _ (HT.out _ hB3.out)).mono ?_
        rintro e w4 ⟨rfl, hb4⟩
        have hB4 := bt hB3 hb4
        have hfin := Lib.hid (HF.out _ hB4.out)
        clear hb4
        go_wp2_with fail
        refine (C2.out _ (HT.out _ hB4.out)).mono ?_
        rintro e w5 ⟨rfl, hb5⟩
        have hfin2 := Lib.hid (HF.out _ (bt hB4 hb5).out)
        clear hb5
        go_wp2
        exact hfin2.out
      · subst hm
        obtain rfl : a = b := HJ.out n m rfl rfl
        have v1 : cm m m = 0 := by unfold cm; rw [if_neg (by omega), if_neg (by omega)]
        rw [v1] at D1 D2
        have C1 := Lib.hid D1
        have C2 := Lib.hid D2
        clear D1 D2 v1 HJ HE
        unfold CmpC at C1 C2
        go_enter Tryd.func7, Tryd.ntmps7
        go_wp2_with fail
        refine HA.out.mono ?_
        rintro e w1 ⟨rfl, hb1⟩
        have hB1 : Hid (Below w.heap.size w w1) := hb1
        clear hb1
        go_wp2_with fail
        refine (H1.out _ (HT.out _ hB1.out)).mono ?_
        rintro e w2 ⟨rfl, hb2⟩
        have hB2 := bt hB1 hb2
        clear hb2
        go_wp2_with fail
        refine (H2.out _ (HT.out _ hB2.out)).mono ?_
        rintro e w3 ⟨rfl, hb3⟩
        have hB3 := bt hB2 hb3
        clear hb3
        go_wp2_with fail
        refine (C1.out _ (HT.out _ hB3.out)).mono ?_
        rintro e w4 ⟨rfl, hb4⟩
        have hB4 := bt hB3 hb4
        have hfin := Lib.hid (HF.out _ hB4.out)
        clear hb4
        go_wp2_with fail
        refine (C2.out _ (HT.out _ hB4.out)).mono ?_
        rintro e w5 ⟨rfl, hb5⟩
        have hfin2 := Lib.hid (HF.out _ (bt hB4 hb5).out)
        clear hb5
        go_wp2
        exact hfin2.out
      · have v1 : cm m y = 1 := by unfold cm; rw [if_neg (by omega), if_pos (by omega)]
        have v2 : cm y m = -1 := by unfold cm; rw [if_pos (by omega)]
        have hab : ¬ a = b := fun h => absurd (congrArg (fun p : Int × Nat × Int => p.2.1) (HE.out h)) (by show ¬ m = y; omega)
        have hmi : (y : Int) < (m : Int) := by omega
        rw [v1] at D1
        rw [v2] at D2
        have C1 := Lib.hid D1
        have C2 := Lib.hid D2
        have hts := str_ne hab
        clear D1 D2 v1 v2 HJ HE hab
        unfold CmpC at C1 C2
        go_enter Tryd.func7, Tryd.ntmps7
        go_wp2_with fail
        refine HA.out.mono ?_
        rintro e w1 ⟨rfl, hb1⟩
        have hB1 : Hid (Below w.heap.size w w1) := hb1
        clear hb1
        go_wp2_with fail
        refine (H1.out _ (HT.out _ hB1.out)).mono ?_
        rintro e w2 ⟨rfl, hb2⟩
        have hB2 := bt hB1 hb2
        clear hb2
        go_wp2_with fail
        refine (H2.out _ (HT.out _ hB2.out)).mono ?_
        rintro e w3 ⟨rfl, hb3⟩
        have hB3 := bt hB2 hb3
        clear hb3
        go_wp2_with fail
        refine (C1.out _ (HT.out _ hB3.out)).mono ?_
        rintro e w4 ⟨rfl, hb4⟩
        have hB4 := bt hB3 hb4
        have hfin := Lib.hid (HF.out _ hB4.out)
        clear hb4
        go_wp2_with fail
        refine (C2.out _ (HT.out _ hB4.out)).mono ?_
        rintro e w5 ⟨rfl, hb5⟩
        have hfin2 := Lib.hid (HF.out _ (bt hB4 hb5).out)
        clear hb5
        go_wp2
        exact hfin2.out
    · have v1 : (if cm n x = 0 then cm m y else cm n x) = 1 := by unfold cm; rw [if_neg (show ¬ n < x by omega), if_pos hn, if_neg (by omega)]
      have v2 : (if cm x n = 0 then cm y m else cm x n) = -1 := by unfold cm; rw [if_pos hn, if_neg (by omega)]
      have hab : ¬ a = b := fun h => absurd (congrArg (fun p : Int × Nat × Int => p.1) (HE.out h)) (by show ¬ n = x; omega)
      rw [v1] at D1
      rw [v2] at D2
      have C1 := Lib.hid D1
      have C2 := Lib.hid D2
      have hts := str_ne hab
      clear D1 D2 v1 v2 HJ HE hab
      unfold CmpC at C1 C2
      go_enter Tryd.func7, Tryd.ntmps7
      go_wp2_with fail
      refine HA.out.mono ?_
      rintro e w1 ⟨rfl, hb1⟩
      have hB1 : Hid (Below w.heap.size w w1) := hb1
      clear hb1
      go_wp2_with fail
      refine (H1.out _ (HT.out _ hB1.out)).mono ?_
      rintro e w2 ⟨rfl, hb2⟩
      have hB2 := bt hB1 hb2
      clear hb2
      go_wp2_with fail
      refine (H2.out _ (HT.out _ hB2.out)).mono ?_
      rintro e w3 ⟨rfl, hb3⟩
      have hB3 := bt hB2 hb3
      clear hb3
      go_wp2_with fail
      refine (C1.out _ (HT.out _ hB3.out)).mono ?_
      rintro e w4 ⟨rfl, hb4⟩
      have hB4 := bt hB3 hb4
      have hfin := Lib.hid (HF.out _ hB4.out)
      clear hb4
      go_wp2_with fail
      refine (C2.out _ (HT.out _ hB4.out)).mono ?_
      rintro e w5 ⟨rfl, hb5⟩
      have hfin2 := Lib.hid (HF.out _ (bt hB4 hb5).out)
      clear hb5
      go_wp2
      exact hfin2.out
end Go.Proofs.YtljanfbchgalbaaDoor
