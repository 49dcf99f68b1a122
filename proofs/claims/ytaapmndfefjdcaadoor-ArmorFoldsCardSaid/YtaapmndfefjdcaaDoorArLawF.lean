/-
  Helper: the walk of the statement ArmorFolds.
-/
import Derived.Test.YtaapmndfefjdcaaDoorArLaws
namespace Go.Proofs.YtaapmndfefjdcaaDoor
open Go.RowKit
set_option linter.unusedVariables false

theorem map_data_inj : ∀ (xs ys : List ByteArray), xs.map (fun c : ByteArray => c.data.toList) = ys.map (fun c : ByteArray => c.data.toList) → xs = ys
  | [], [], _ => rfl
  | [], y :: ys, h => by cases h
  | x :: xs, [], h => by cases h
  | x :: xs, y :: ys, h => by
    rw [List.map_cons, List.map_cons] at h
    injection h with h1 h2
    rw [ba_ext _ _ h1, map_data_inj xs ys h2]
set_option maxRecDepth 100000 in
set_option maxHeartbeats 4000000 in
theorem walkArmorFolds (w : World) (a : ByteArray) (h : a.size ≤ maxLen) (i : Int) (hi : (Lit.int .i64 i).wf = true) : Calls Tryd.prog 7 #[.string a, .int .i64 i] w fun e w' => e = .returned (.bool true) ∧ Below w.heap.size w w' := by
  unfold maxLen at h
  clear hi
  have HA := Lib.hid awake_any
  by_cases hs : a.size ≤ 1000
  · by_cases hw : i < 1 ∨ 76 < i
    · have H1 := Lib.hid (fun w => fold_err a i w hw)
      have H2 := Lib.hid (fun w => rfold_err a i w hw)
      clear hw
      go_enter Tryd.func7, Tryd.ntmps7
      go_wp2_with fail
      refine (HA.out _).mono ?_
      rintro e w1 ⟨rfl, hb1⟩
      have hB0 : Hid (Below w.heap.size w w1) := hb1
      clear hb1
      go_wp2_with fail
      refine (H1.out _).mono ?_
      rintro e w2 ⟨rfl, rfl⟩
      go_wp2_with fail
      refine (H2.out _).mono ?_
      rintro e w2 ⟨rfl, rfl⟩
      go_wp2
      go_loop [9] (fun v => v = .int .i64 0) (fun _ => 0)
      case atStart => exact rfl
      case round =>
        obtain rfl := hrel
        go_wp2
        go_ret
        exact ⟨rfl, hB0.out⟩
    · obtain ⟨n, rfl⟩ : ∃ n : Nat, i = n := ⟨i.toNat, by omega⟩
      have H1 := Lib.hid (fun w => fold_ok a n w (by omega) (by omega) (by omega))
      have H2 := Lib.hid (fun w => rfold_ok a n w (by omega) (by omega) (by omega))
      have HFl := Lib.hid (pcs_flat n (by omega) a.data.toList)
      have HLn : Hid ((pcs n a.data.toList).length ≤ 1000) := by
        have e := pcs_len n (by omega) a.data.toList
        have e3 : a.data.toList.length = a.size := by simp
        show _ ≤ _
        omega
      have hal : Hid (a.data.toList.length ≤ 1000) := by
        have e3 : a.data.toList.length = a.size := by simp
        show _ ≤ _
        omega
      clear hw
      go_enter Tryd.func7, Tryd.ntmps7
      go_wp2_with fail
      refine (HA.out _).mono ?_
      rintro e w1 ⟨rfl, hb1⟩
      have hB0 : Hid (Below w.heap.size w w1) := hb1
      clear hb1
      go_wp2_with fail
      refine (H1.out _).mono ?_
      rintro e w2 ⟨v1, xs, rfl, hx, hown1, hb2⟩
      obtain ⟨a1, c1, rfl, q1, q2, hsb1, q3, q4, q5⟩ := sb_of_row hown1
      have hB1 := bt hB0 hb2
      have hxh := Lib.hid hx
      have hsb1h := Lib.hid hsb1
      have q4h := Lib.hid q4
      have q5h := Lib.hid q5
      have q2h := Lib.hid q2
      clear q1 q3 q4 q5 q2 hx hown1 hsb1 hb2
      go_wp2_with fail
      refine (H2.out _).mono ?_
      rintro e w3 ⟨v2, ys, rfl, hy, hown2, hb3⟩
      have hxy : ys = xs := map_data_inj _ _ (hy.trans hxh.out.symm)
      subst hxy
      obtain ⟨a2, c2, rfl, q1, q2, hsb2, q3, q4, q5⟩ := sb_of_row hown2
      have hB2 := bt hB1 hb3
      have S1 : Hid (Sb w3 a1 ys) := hsb1h.out.go hb3
      have S2 : Hid (Sb w3 a2 ys) := hsb2
      have Q5 : Hid (a1 = none ∨ ∃ b, a1 = some ⟨b, 0, none⟩ ∧ b < w3.heap.size) := by
        rcases q5h.out with h | ⟨b, h1, h2⟩
        · exact .inl h
        · exact .inr ⟨b, h1, Nat.lt_of_lt_of_le h2 hb3.size⟩
      have hyl : Hid (ys.length ≤ 1000) := by
        have e := congrArg List.length hxh.out
        rw [List.length_map] at e
        have := HLn.out
        show _ ≤ _
        omega
      have HU : Hid (∀ W, Below w3.heap.size w3 W → Calls Tryd.prog 21 #[.slice a1 ys.length c1] W fun e w' => e = .returned (.string a) ∧ Below W.heap.size W w') := fun W hW => by
        refine (unfold_any a1 ys.length c1 ys W rfl (S1.out.go hW) q4h.out q2h.out (fun _ => ?_) (by have := hyl.out; omega) (by rw [hxh.out, HFl.out]; have := hal.out; omega)).mono ?_
        · rcases Q5.out with h | ⟨b, h1, h2⟩
          · exact .inl h
          · exact .inr ⟨b, h1, Nat.lt_of_lt_of_le h2 hW.size⟩
        · rintro e w' ⟨h1, h2⟩
          rw [hxh.out, HFl.out, ba_eta] at h1
          exact ⟨h1, h2⟩
      clear q1 q2 q3 q4 q5 hy hown2 hsb2 hb3
      have hyl2 := hyl.out
      have hS1 := S1.out
      have hS2 := S2.out
      have HG : Hid (∀ k, k < ys.length → ∃ x, ys[k]? = some x) := fun k hk => ⟨_, List.getElem?_eq_getElem hk⟩
      clear hS1 hS2
      generalize hn : ys.length = m at *
      have hmh := Lib.hid hn
      clear hn
      go_wp2
      go_loopw [9] (fun v wr => ∃ k : Nat, k ≤ m ∧ v = .int .i64 k ∧ Below w3.heap.size w3 wr) (fun v _ => m - (intOf v).toNat)
      case atStart => exact ⟨0, Nat.zero_le _, rfl, Below.refl _ _⟩
      case round =>
        obtain ⟨k, hk, rfl, hbel⟩ := hrel
        by_cases hlt : k < m
        · obtain ⟨x, hx⟩ := HG.out k hlt
          have T1 := S1.out.go hbel
          have T2 := S2.out.go hbel
          have hne : ys ≠ [] := fun e => by
            have h9 := hmh.out
            rw [e] at h9
            have : m = 0 := h9.symm
            omega
          obtain ⟨b1, rfl, _, hc1⟩ := T1.resolve_left hne
          obtain ⟨b2, rfl, _, hc2⟩ := T2.resolve_left hne
          have d1 := hc1 k x hx
          have d2 := hc2 k x hx
          have hkm : (k : Int) < (m : Int) := by omega
          clear hc1 hc2 hx hne
          go_wp2_with fail
          go_quiet (fail)
          go_wp2
          go_roundw
          case rel => exact ⟨k + 1, by omega, by go_num, Below.drewN hbel _⟩
          case measure => simp [intOf]; omega
        · obtain rfl : k = m := by omega
          have HU2 := Lib.hid (HU.out wr hbel)
          have hB3 := bt hB2 hbel
          clear HU
          go_wp2_with fail
          refine HU2.out.mono ?_
          rintro e w4 ⟨rfl, hb4⟩
          have hB4 := bt hB3 hb4
          clear hb4
          go_wp2
          go_ret
          exact ⟨rfl, hB4.out⟩
  · go_enter Tryd.func7, Tryd.ntmps7
    go_wp2_with fail
    refine (HA.out _).mono ?_
    rintro e w1 ⟨rfl, hb1⟩
    have hB0 : Hid (Below w.heap.size w w1) := hb1
    clear hb1
    go_wp2
    go_ret
    exact ⟨rfl, hB0.out⟩
end Go.Proofs.YtaapmndfefjdcaaDoor
