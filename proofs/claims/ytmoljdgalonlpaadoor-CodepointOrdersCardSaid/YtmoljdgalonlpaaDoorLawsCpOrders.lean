/-
  Helper: the walk of CodepointOrders: two decoded strings are compared up to the first difference.
-/
import Derived.Test.YtmoljdgalonlpaaDoorLawsCpDecodes
import Derived.Test.YtmoljdgalonlpaaDoorOrdPlain
import Derived.Lib.Hide
namespace Go.Proofs.YtmoljdgalonlpaaDoor
open Go.RowKit
set_option linter.unusedVariables false

def SomePost (err : Int) (w : World) (e : Ending) (w' : World) : Prop := ∃ a n cap, e = .returned (.tuple #[.slice a n cap, .int .i64 err]) ∧ Below w.heap.size w w'
theorem dec_some (s : ByteArray) (hs : s.size ≤ 1000000) : ∃ err : Int, (err = 0 ∨ err = 11) ∧ ∀ w, Calls Tryd.prog 18 #[.string s] w (SomePost err w) := by
  by_cases hv : stop s 0 = s.size
  · refine ⟨0, .inl rfl, fun w => (decode_rd s w hs hv).mono ?_⟩
    rintro e w' ⟨a, cap, rfl, _, hb⟩
    exact ⟨a, _, cap, rfl, hb⟩
  · refine ⟨11, .inr rfl, fun w => (decode_no s w hs hv).mono ?_⟩
    rintro e w' ⟨rfl, hb⟩
    exact ⟨none, 0, 0, rfl, hb⟩
theorem ints32_at (l : List Nat) (i : Nat) : (ints32 l).getD i 0 = ((l.getD i 0 : Nat) : Int) := by
  unfold ints32
  rw [List.getD_eq_getElem?_getD, List.getD_eq_getElem?_getD, List.getElem?_map]
  cases l[i]? <;> rfl
theorem ints32_length (l : List Nat) : (ints32 l).length = l.length := by unfold ints32; rw [List.length_map]
theorem ord_at (a b : ByteArray) (hv : stop a 0 = a.size) (hw : stop b 0 = b.size) (i : Nat) (h1 : i < (ints32 (scalars a 0)).length) (h2 : i < (ints32 (scalars b 0)).length)
    (he : ∀ j, j < i → (ints32 (scalars a 0)).getD j 0 = (ints32 (scalars b 0)).getD j 0) (h : (ints32 (scalars a 0)).getD i 0 ≠ (ints32 (scalars b 0)).getD i 0) :
    Op.bytesLess a.toList b.toList = decide ((ints32 (scalars a 0)).getD i 0 < (ints32 (scalars b 0)).getD i 0) := by
  rw [ints32_length] at h1 h2
  simp only [ints32_at] at he h ⊢
  rw [ord_valid a b hv hw, nless_at _ _ i h1 h2 (fun j hj => by have := he j hj; omega) (fun e => h (by rw [e]))]
  by_cases g : (scalars a 0).getD i 0 < (scalars b 0).getD i 0
  · rw [decide_eq_true g, decide_eq_true (by omega)]
  · rw [decide_eq_false g, decide_eq_false (by omega)]
theorem ord_len (a b : ByteArray) (hv : stop a 0 = a.size) (hw : stop b 0 = b.size)
    (he : ∀ j, j < (ints32 (scalars a 0)).length → j < (ints32 (scalars b 0)).length → (ints32 (scalars a 0)).getD j 0 = (ints32 (scalars b 0)).getD j 0) :
    Op.bytesLess a.toList b.toList = decide ((ints32 (scalars a 0)).length < (ints32 (scalars b 0)).length) := by
  rw [ints32_length, ints32_length] at he ⊢
  simp only [ints32_at] at he
  rw [ord_valid a b hv hw]
  exact nless_len _ _ (fun j h1 h2 => by have := he j h1 h2; omega)
theorem beq_true_of (r : Bool) (p : Prop) [Decidable p] (h : r = decide p) : (decide p == r) = true := by rw [h]; simp
theorem cast_lt (n m : Nat) : decide ((n : Int) < (m : Int)) = decide (n < m) := by
  by_cases h : n < m
  · rw [decide_eq_true h, decide_eq_true (by omega)]
  · rw [decide_eq_false h, decide_eq_false (by omega)]

set_option maxRecDepth 100000 in
set_option maxHeartbeats 2000000 in
theorem walkCodepointOrders (w : World) (hT : Tabs w) (a : ByteArray) (h : a.size ≤ maxLen) (b : ByteArray) (h' : b.size ≤ maxLen) :
    Calls Tryd.prog 7 #[.string a, .string b] w fun e w' => e = .returned (.bool true) ∧ Below w.heap.size w w' := by
  unfold maxLen at h h'
  have HT := Lib.hid hT
  clear hT
  by_cases ha : a.size ≤ 500
  · by_cases hb : b.size ≤ 500
    · by_cases hv : stop a 0 = a.size
      · by_cases hw : stop b 0 = b.size
        · have hla := ints32_len a
          have hlb := ints32_len b
          have HDA : Hid (∀ w, Calls Tryd.prog 18 #[.string a] w (DecPost a (ints32 (scalars a 0)).length (ints32 (scalars a 0)) w)) := fun w => decode_rd a w (by omega) hv
          have HDB : Hid (∀ w, Calls Tryd.prog 18 #[.string b] w (DecPost b (ints32 (scalars b 0)).length (ints32 (scalars b 0)) w)) := fun w => decode_rd b w (by omega) hw
          have HAT := Lib.hid (fun i h1 h2 he h => ord_at a b hv hw i h1 h2 he h)
          have HLEN := Lib.hid (fun he => ord_len a b hv hw he)
          clear hv hw
          generalize ints32 (scalars a 0) = xs at *
          generalize ints32 (scalars b 0) = ys at *
          go_enter Tryd.func7, Tryd.ntmps7
          go_wp2_with fail
          refine (awake1_any _ HT.out).mono ?_
          rintro e w0 ⟨rfl, hb0⟩
          go_wp2_with fail
          refine (HDA.out _).mono ?_
          rintro e w1 ⟨a1, cap1, rfl, hr1, hb1⟩
          have hB1 : Hid (Below w.heap.size w w1) := below2 hb0 hb1
          have hR1 := Lib.hid hr1
          clear hb0 hb1 hr1 HT
          go_wp2_with fail
          refine (HDB.out _).mono ?_
          rintro e w2 ⟨a2, cap2, rfl, hr2, hb2⟩
          have hB2 : Hid (Below w.heap.size w w2) := below2 hB1.out hb2
          have HX := Lib.hid (fun i hi => (hR1.out.below hb2).at i hi)
          have HY := Lib.hid (fun i hi => hr2.at i hi)
          clear hB1 hb2 hr2 hR1
          generalize hn : xs.length = n at *
          generalize hm : ys.length = m at *
          go_wp2_with fail
          go_loopw [9] (fun c wr => ∃ k : Nat, k ≤ n ∧ k ≤ m ∧ c = .int .i64 k ∧ Below w2.heap.size w2 wr ∧ Hid (∀ i, i < k → xs.getD i 0 = ys.getD i 0)) (fun c _ => n - (intOf c).toNat)
          case atStart => exact ⟨0, Nat.zero_le _, Nat.zero_le _, rfl, Below.refl _ _, fun i hi => absurd hi (Nat.not_lt_zero _)⟩
          case round =>
            obtain ⟨k, hk, hkm, rfl, hbel, HE⟩ := hrel
            by_cases hlt : k < n ∧ k < m
            · obtain ⟨p1, p2⟩ := hlt
              obtain ⟨o, off, rfl, ho, hc1⟩ := HX.out k (by omega)
              obtain ⟨o', off', rfl, ho', hc2⟩ := HY.out k (by omega)
              have c1 := hbel.cell (p := ⟨o, off + k, none⟩) ho
              have c2 := hbel.cell (p := ⟨o', off' + k, none⟩) ho'
              rw [hc1] at c1
              rw [hc2] at c2
              have hkm2 : (k : Int) < (m : Int) := by omega
              have hkn : (k : Int) < (n : Int) := by omega
              clear hc1 hc2
              by_cases he : xs.getD k 0 = ys.getD k 0
              · have hq : (xs.getD k 0 != ys.getD k 0) = false := by rw [bne_eq_false_iff_eq]; exact he
                have HE2 : Hid (∀ i, i < k + 1 → xs.getD i 0 = ys.getD i 0) := fun i hi => by
                  by_cases g : i = k
                  · rw [g]; exact he
                  · exact HE.out i (by omega)
                clear he HE HAT HLEN
                generalize xs.getD k 0 = x at *
                generalize ys.getD k 0 = y at *
                go_wp2
                go_region
                all_goals go_wp2
                all_goals go_roundw
                case rel => exact ⟨k + 1, by omega, by omega, by go_num, hbel.drew, HE2⟩
                case measure => simp [intOf]; omega
              · have hq : (xs.getD k 0 != ys.getD k 0) = true := by rw [bne_iff_ne]; exact he
                have hr := beq_true_of (Op.bytesLess a.toList b.toList) _ (HAT.out k (by omega) (by omega) HE.out he)
                clear he HE HAT HLEN
                generalize xs.getD k 0 = x at *
                generalize ys.getD k 0 = y at *
                go_wp2
                go_region
                all_goals go_wp2
                all_goals go_region
                all_goals go_wp2
                all_goals go_ret
                all_goals exact ⟨rfl, hB2.out.trans (hbel.drew.drew.mono hB2.out.size)⟩
            · have hr : (decide (n < m) == Op.bytesLess a.toList b.toList) = true := by
                refine beq_true_of (Op.bytesLess a.toList b.toList) _ (HLEN.out fun j h1 h2 => HE.out j ?_)
                omega
              clear HE HAT HLEN
              by_cases hkn : k < n
              · have hkm3 : ¬ (k : Int) < (m : Int) := by omega
                go_wp2_with fail
                go_ret
                exact ⟨rfl, hB2.out.trans (hbel.mono hB2.out.size)⟩
              · have hkn3 : ¬ (k : Int) < (n : Int) := by omega
                go_wp2_with fail
                go_ret
                exact ⟨rfl, hB2.out.trans (hbel.mono hB2.out.size)⟩
        · obtain ⟨err, herr, HDA0⟩ := dec_some a (by omega)
          have HDA := Lib.hid HDA0
          have HDB : Hid (∀ w, Calls Tryd.prog 18 #[.string b] w fun e w' => e = .returned (.tuple #[.slice none 0 0, .int .i64 11]) ∧ Below w.heap.size w w') := fun w => decode_no b w (by omega) hw
          clear HDA0 hv hw
          rcases herr with rfl | rfl
          · go_enter Tryd.func7, Tryd.ntmps7
            go_wp2_with fail
            refine (awake1_any _ HT.out).mono ?_
            rintro e w0 ⟨rfl, hb0⟩
            go_wp2_with fail
            refine (HDA.out _).mono ?_
            rintro e w1 ⟨a1, n1, cap1, rfl, hb1⟩
            go_wp2_with fail
            refine (HDB.out _).mono ?_
            rintro e w2 ⟨rfl, hb2⟩
            have hB2 : Hid (Below w.heap.size w w2) := below2 (below2 hb0 hb1) hb2
            clear hb0 hb1 hb2
            go_wp2_with fail
            go_ret
            exact ⟨rfl, hB2.out⟩
          · go_enter Tryd.func7, Tryd.ntmps7
            go_wp2_with fail
            refine (awake1_any _ HT.out).mono ?_
            rintro e w0 ⟨rfl, hb0⟩
            go_wp2_with fail
            refine (HDA.out _).mono ?_
            rintro e w1 ⟨a1, n1, cap1, rfl, hb1⟩
            go_wp2_with fail
            refine (HDB.out _).mono ?_
            rintro e w2 ⟨rfl, hb2⟩
            have hB2 : Hid (Below w.heap.size w w2) := below2 (below2 hb0 hb1) hb2
            clear hb0 hb1 hb2
            go_wp2_with fail
            go_ret
            exact ⟨rfl, hB2.out⟩

      · obtain ⟨err, herr, HDB0⟩ := dec_some b (by omega)
        have HDB := Lib.hid HDB0
        have HDA : Hid (∀ w, Calls Tryd.prog 18 #[.string a] w fun e w' => e = .returned (.tuple #[.slice none 0 0, .int .i64 11]) ∧ Below w.heap.size w w') := fun w => decode_no a w (by omega) hv
        clear HDB0 hv
        rcases herr with rfl | rfl
        · go_enter Tryd.func7, Tryd.ntmps7
          go_wp2_with fail
          refine (awake1_any _ HT.out).mono ?_
          rintro e w0 ⟨rfl, hb0⟩
          go_wp2_with fail
          refine (HDA.out _).mono ?_
          rintro e w1 ⟨rfl, hb1⟩
          go_wp2_with fail
          refine (HDB.out _).mono ?_
          rintro e w2 ⟨a2, n2, cap2, rfl, hb2⟩
          have hB2 : Hid (Below w.heap.size w w2) := below2 (below2 hb0 hb1) hb2
          clear hb0 hb1 hb2
          go_wp2_with fail
          go_ret
          exact ⟨rfl, hB2.out⟩
        · go_enter Tryd.func7, Tryd.ntmps7
          go_wp2_with fail
          refine (awake1_any _ HT.out).mono ?_
          rintro e w0 ⟨rfl, hb0⟩
          go_wp2_with fail
          refine (HDA.out _).mono ?_
          rintro e w1 ⟨rfl, hb1⟩
          go_wp2_with fail
          refine (HDB.out _).mono ?_
          rintro e w2 ⟨a2, n2, cap2, rfl, hb2⟩
          have hB2 : Hid (Below w.heap.size w w2) := below2 (below2 hb0 hb1) hb2
          clear hb0 hb1 hb2
          go_wp2_with fail
          go_ret
          exact ⟨rfl, hB2.out⟩

    · go_enter Tryd.func7, Tryd.ntmps7
      go_wp2_with fail
      refine (awake1_any _ HT.out).mono ?_
      rintro e w0 ⟨rfl, hb0⟩
      go_wp2_with fail
      go_ret
      exact ⟨rfl, hb0⟩
  · go_enter Tryd.func7, Tryd.ntmps7
    go_wp2_with fail
    refine (awake1_any _ HT.out).mono ?_
    rintro e w0 ⟨rfl, hb0⟩
    go_wp2_with fail
    go_ret
    exact ⟨rfl, hb0⟩
end Go.Proofs.YtmoljdgalonlpaaDoor
