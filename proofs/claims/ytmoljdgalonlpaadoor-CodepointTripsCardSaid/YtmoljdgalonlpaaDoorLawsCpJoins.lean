/-
  Helper: the walk of CodepointJoins: three checks.
-/
import Derived.Test.YtmoljdgalonlpaaDoorCpAwake
import Derived.Test.YtmoljdgalonlpaaDoorScanJoin
namespace Go.Proofs.YtmoljdgalonlpaaDoor
open Go.RowKit
set_option linter.unusedVariables false

theorem chk_ok (s : ByteArray) (w : World) (hs : s.size ≤ 1000000) (hv : stop s 0 = s.size) : Calls Tryd.prog 17 #[.string s] w fun e w' => e = .returned (.tuple #[.int .i64 (-1), .int .i64 0]) ∧ Below w.heap.size w w' := by
  have h := check_any s w hs
  rw [chkV_ok s hv] at h; exact h
theorem chk_no (s : ByteArray) (w : World) (hs : s.size ≤ 1000000) (k : Nat) (hk : k = stop s 0) (hv : ¬ stop s 0 = s.size) : Calls Tryd.prog 17 #[.string s] w fun e w' => e = .returned (.tuple #[.int .i64 k, .int .i64 11]) ∧ Below w.heap.size w w' := by
  have h := check_any s w hs
  rw [chkV_no s hv, ← hk] at h; exact h

theorem chk_some (s : ByteArray) (hs : s.size ≤ 1000000) : ∃ x y : Int, ∀ w, Calls Tryd.prog 17 #[.string s] w fun e w' => e = .returned (.tuple #[.int .i64 x, .int .i64 y]) ∧ Below w.heap.size w w' := by
  by_cases hv : stop s 0 = s.size
  · exact ⟨_, _, fun w => chk_ok s w hs hv⟩
  · exact ⟨_, _, fun w => chk_no s w hs _ rfl hv⟩
theorem below4 {w w0 w1 w2 w3 : World} (h0 : Below w.heap.size w w0) (h1 : Below w0.heap.size w0 w1) (h2 : Below w1.heap.size w1 w2) (h3 : Below w2.heap.size w2 w3) : Below w.heap.size w w3 := by
  have k1 := h0.trans (h1.mono h0.size)
  have k2 := k1.trans (h2.mono k1.size)
  exact k2.trans (h3.mono k2.size)

set_option maxRecDepth 100000 in
set_option maxHeartbeats 1000000 in
theorem walkCodepointJoins (w : World) (hT : Tabs w) (a : ByteArray) (h : a.size ≤ maxLen) (b : ByteArray) (h' : b.size ≤ maxLen) :
    Calls Tryd.prog 8 #[.string a, .string b] w fun e w' => e = .returned (.bool true) ∧ Below w.heap.size w w' := by
  unfold maxLen at h h'
  have HT := Lib.hid hT
  clear hT
  by_cases ha : a.size ≤ 1000
  · by_cases hb : b.size ≤ 1000
    · have hab : (a ++ b).size ≤ 1000000 := by rw [ByteArray.size_append]; omega
      by_cases hv : stop a 0 = a.size
      · have hj := (valid_app a b 0 (Nat.zero_le _) hv).2
        have H1 : Hid (∀ w, Calls Tryd.prog 17 #[.string a] w fun e w' => e = .returned (.tuple #[.int .i64 (-1), .int .i64 0]) ∧ Below w.heap.size w w') := fun w => chk_ok a w (by omega) hv
        by_cases hw : stop b 0 = b.size
        · have H2 : Hid (∀ w, Calls Tryd.prog 17 #[.string b] w fun e w' => e = .returned (.tuple #[.int .i64 (-1), .int .i64 0]) ∧ Below w.heap.size w w') := fun w => chk_ok b w (by omega) hw
          have H3 : Hid (∀ w, Calls Tryd.prog 17 #[.string (a ++ b)] w fun e w' => e = .returned (.tuple #[.int .i64 (-1), .int .i64 0]) ∧ Below w.heap.size w w') := fun w => chk_ok (a ++ b) w hab (by rw [hj, hw, ByteArray.size_append])
          clear hv hw hj hab
          go_enter Tryd.func8, Tryd.ntmps8
          go_wp2_with fail
          refine (awake1_any _ HT.out).mono ?_
          rintro e w0 ⟨rfl, hb0⟩
          go_wp2_with fail
          refine (H1.out _).mono ?_
          rintro e w1 ⟨rfl, hb1⟩
          go_wp2_with fail
          refine (H2.out _).mono ?_
          rintro e w2 ⟨rfl, hb2⟩
          go_wp2_with fail
          refine (H3.out _).mono ?_
          rintro e w3 ⟨rfl, hb3⟩
          go_wp2_with fail
          go_ret
          exact ⟨rfl, below4 hb0 hb1 hb2 hb3⟩
        · have hkb := (stop_le b 0 (Nat.zero_le _)).2.1
          have H2 : Hid (∀ w, Calls Tryd.prog 17 #[.string b] w fun e w' => e = .returned (.tuple #[.int .i64 ((stop b 0 : Nat) : Int), .int .i64 11]) ∧ Below w.heap.size w w') := fun w => chk_no b w (by omega) _ rfl hw
          have H3 : Hid (∀ w, Calls Tryd.prog 17 #[.string (a ++ b)] w fun e w' => e = .returned (.tuple #[.int .i64 ((a.size : Int) + ((stop b 0 : Nat) : Int)), .int .i64 11]) ∧ Below w.heap.size w w') := fun w => by
            have h := chk_no (a ++ b) w hab (a.size + stop b 0) hj.symm (by rw [hj, ByteArray.size_append]; omega)
            rw [Int.natCast_add] at h; exact h
          clear hv hw hj hab
          generalize stop b 0 = k at *
          have e1 : IntKind.i64.wrap ((a.size : Int) + (k : Int)) = (a.size : Int) + (k : Int) := IntWalk.i64_in _ (by omega)
          go_enter Tryd.func8, Tryd.ntmps8
          go_wp2_with fail
          refine (awake1_any _ HT.out).mono ?_
          rintro e w0 ⟨rfl, hb0⟩
          go_wp2_with fail
          refine (H1.out _).mono ?_
          rintro e w1 ⟨rfl, hb1⟩
          go_wp2_with fail
          refine (H2.out _).mono ?_
          rintro e w2 ⟨rfl, hb2⟩
          go_wp2_with fail
          refine (H3.out _).mono ?_
          rintro e w3 ⟨rfl, hb3⟩
          go_wp2_with fail
          go_ret
          exact ⟨rfl, below4 hb0 hb1 hb2 hb3⟩
      · have hka := (stop_le a 0 (Nat.zero_le _)).2.1
        have H1 : Hid (∀ w, Calls Tryd.prog 17 #[.string a] w fun e w' => e = .returned (.tuple #[.int .i64 ((stop a 0 : Nat) : Int), .int .i64 11]) ∧ Below w.heap.size w w') := fun w => chk_no a w (by omega) _ rfl hv
        obtain ⟨x2, y2, G2⟩ := chk_some b (by omega)
        obtain ⟨x3, y3, G3⟩ := chk_some (a ++ b) hab
        have H2 := Lib.hid G2
        have H3 := Lib.hid G3
        have hlt : ((stop a 0 : Nat) : Int) < (a.size : Int) := by omega
        clear hv hab G2 G3 hka
        generalize stop a 0 = k at *
        go_enter Tryd.func8, Tryd.ntmps8
        go_wp2_with fail
        refine (awake1_any _ HT.out).mono ?_
        rintro e w0 ⟨rfl, hb0⟩
        go_wp2_with fail
        refine (H1.out _).mono ?_
        rintro e w1 ⟨rfl, hb1⟩
        go_wp2_with fail
        refine (H2.out _).mono ?_
        rintro e w2 ⟨rfl, hb2⟩
        go_wp2_with fail
        refine (H3.out _).mono ?_
        rintro e w3 ⟨rfl, hb3⟩
        go_wp2_with fail
        go_ret
        exact ⟨rfl, below4 hb0 hb1 hb2 hb3⟩
    · go_enter Tryd.func8, Tryd.ntmps8
      go_wp2_with fail
      refine (awake1_any _ HT.out).mono ?_
      rintro e w0 ⟨rfl, hb0⟩
      go_wp2_with fail
      go_ret
      exact ⟨rfl, hb0⟩
  · go_enter Tryd.func8, Tryd.ntmps8
    go_wp2_with fail
    refine (awake1_any _ HT.out).mono ?_
    rintro e w0 ⟨rfl, hb0⟩
    go_wp2_with fail
    go_ret
    exact ⟨rfl, hb0⟩
end Go.Proofs.YtmoljdgalonlpaaDoor
