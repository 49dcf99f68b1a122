/-
  Helper: the walks of Days, of the program and of the reference.
-/
import Derived.Test.YtckeefjmamggmaaDoorJcFns
namespace Go.Proofs.YtckeefjmamggmaaDoor
open Go.RowKit
set_option linter.unusedVariables false

theorem LTab.drewN {w : World} (h : LTab w) (q : Nat) : LTab (w.drewN q) := h
theorem drewN_add (w : World) (a b : Nat) : (w.drewN a).drewN b = w.drewN (a + b) := by
  unfold World.drewN; simp [Nat.add_assoc]
theorem isD_nat (y m d : Int) (h : IsD y m d) : ∃ (M : Nat), m = M ∧ 1 ≤ M ∧ M < 13 := ⟨m.toNat, by obtain ⟨_, _, h1, h2, _⟩ := h; omega⟩
theorem not_isD (y d : Int) (M : Nat) (h : ¬ IsD y M d) (c1 : ¬ y < 0) (c2 : ¬ 9999 < y) (c3 : 1 ≤ M) (c4 : M < 13) (c5 : ¬ d < 1) : ml (leap y) M < d := by
  unfold IsD at h; omega

set_option maxHeartbeats 400000 in
/-- Days of three numbers that are no date -/
theorem days_no (y m d : Int) (w : World) (hT : LTab w) (h : ¬ IsD y m d) : Calls Tryd.prog 46 #[.int .i64 y, .int .i64 m, .int .i64 d] w fun e w' => e = .returned (.tuple #[.int .i64 0, .int .i64 13]) ∧ ∃ q, w' = w.drewN q := by
  by_cases c1 : y < 0
  · clear h hT
    go_enter Tryd.func46, Tryd.ntmps46
    go_wp2_with fail
    go_ret2
    exact ⟨rfl, 0, rfl⟩
  by_cases c2 : 9999 < y
  · clear h hT
    go_enter Tryd.func46, Tryd.ntmps46
    go_wp2_with fail
    go_ret2
    exact ⟨rfl, 0, rfl⟩
  by_cases c3 : m < 1
  · clear h hT
    go_enter Tryd.func46, Tryd.ntmps46
    go_wp2_with fail
    go_ret2
    exact ⟨rfl, 0, rfl⟩
  by_cases c4 : 12 < m
  · clear h hT
    go_enter Tryd.func46, Tryd.ntmps46
    go_wp2_with fail
    go_ret2
    exact ⟨rfl, 0, rfl⟩
  by_cases c5 : d < 1
  · clear h hT
    go_enter Tryd.func46, Tryd.ntmps46
    go_wp2_with fail
    go_ret2
    exact ⟨rfl, 0, rfl⟩
  obtain ⟨M, rfl⟩ : ∃ M : Nat, m = M := ⟨m.toNat, by omega⟩
  have c3 : 1 ≤ M := by omega
  have c4 : M < 13 := by omega
  have c6 := not_isD y d M h c1 c2 c3 c4 c5
  have HL := Lib.hid (len_any y M c4 w hT)
  clear h hT
  generalize ml (leap y) M = x at *
  go_enter Tryd.func46, Tryd.ntmps46
  go_wp2_with fail
  refine HL.out.mono ?_
  rintro e w1 ⟨rfl, q, rfl⟩
  go_wp2_with fail
  go_ret2
  exact ⟨rfl, q, rfl⟩

theorem fk_bounds (y : Int) (h0 : 0 ≤ y) (h1 : y ≤ 9999) (k : Nat) (hk : k ≤ 12) : -719528 ≤ db y - 719528 + mb (leap y) k ∧ db y - 719528 + mb (leap y) k ≤ 4000000 := by
  have := db_bound y h0 (by omega)
  have := mb_bound (leap y) k (by omega) (by omega)
  omega
set_option maxHeartbeats 1000000 in
theorem days_yes (y m d : Int) (w : World) (hT : LTab w) (h : IsD y m d) : Calls Tryd.prog 46 #[.int .i64 y, .int .i64 m, .int .i64 d] w fun e w' => e = .returned (.tuple #[.int .i64 (dn y m d), .int .i64 0]) ∧ ∃ q, w' = w.drewN q := by
  obtain ⟨M, rfl, hM1, hM⟩ := isD_nat y m d h
  obtain ⟨hy0, hy1, _, _, hd0, hd1⟩ := h
  have HD := Lib.hid (db_any y hy0 (by omega))
  have HT := Lib.hid hT
  obtain ⟨F, L, D, E, HL, HB, HM, HS, H0, HE, HDD, hDb, hdM⟩ : ∃ (F L : Nat → Int) (D E : Int), Hid (∀ (k : Nat), k < 13 → ∀ (w : World), LTab w → Calls Tryd.prog 40 #[.int .i64 y, .int .i64 k] w fun e w' => e = .returned (.int .i64 (L k)) ∧ ∃ q, w' = w.drewN q)
      ∧ Hid (∀ k, k ≤ 12 → -719528 ≤ F k ∧ F k ≤ 4000000) ∧ Hid (∀ k : Nat, k ≤ 12 → 0 ≤ L k ∧ L k ≤ 31) ∧ Hid (∀ k : Nat, k ≤ 12 → F (k + 1) = F k + L k) ∧ Hid (D - 719528 = F 0) ∧ Hid (E = F M + d - 1) ∧ Hid (db y = D ∧ dn y M d = E) ∧ (0 ≤ D ∧ D ≤ 4000000) ∧ d ≤ L M := by
    refine ⟨fun k => db y - 719528 + mb (leap y) k, fun k => ml (leap y) k, db y, dn y M d, Lib.hid (len_any y), Lib.hid fun k hk => fk_bounds y hy0 hy1 k hk, Lib.hid fun k _ => ml_bound _ _, Lib.hid fun k hk => ?_, Lib.hid ?_, Lib.hid ?_, Lib.hid ⟨rfl, rfl⟩, ?_, hd1⟩
    · have := mb_step (leap y) k (by omega) (by omega)
      show db y - 719528 + mb (leap y) ((k + 1 : Nat) : Int) = db y - 719528 + mb (leap y) k + ml (leap y) k
      rw [show ((k + 1 : Nat) : Int) = k + 1 by omega]; omega
    · show _ = _ + mb (leap y) 0
      rw [show mb (leap y) 0 = 0 by cases leap y <;> decide]; omega
    · show _ = (db y - 719528 + mb (leap y) M) + d - 1
      unfold dn; omega
    · have := db_bound y hy0 (by omega)
      omega
  rw [HDD.out.2]
  rw [HDD.out.1] at HD
  clear HDD hd1 hT
  have hdm := (HM.out M (by omega)).2
  go_enter Tryd.func46, Tryd.ntmps46
  go_wp2_with fail
  refine (HL.out M hM w HT.out).mono ?_
  rintro e w1 ⟨rfl, q1, rfl⟩
  go_wp2_with fail
  refine (HD.out _).mono ?_
  rintro e w1 ⟨rfl, q2, rfl⟩
  go_wp2_with fail
  go_loopw [8, 39] (fun v i wr => ∃ (k q : Nat), k ≤ M ∧ v = .int .i64 (F k) ∧ i = .int .i64 k ∧ wr = w.drewN q) (fun _ i _ => M - (intOf i).toNat)
  case atStart =>
    exact ⟨0, _, by omega, by rw [H0.out], rfl, rfl⟩
  case round =>
    obtain ⟨k, q, hk, rfl, rfl, rfl⟩ := hrel
    by_cases hkM : k = M
    · subst hkM
      have hb := HB.out k (by omega)
      go_wp2_with fail
      go_ret2
      exact ⟨by rw [HE.out]; rfl, _, rfl⟩
    · have hb := HB.out k (by omega)
      have hc := HM.out k (by omega)
      have hs := Lib.hid (HS.out k (by omega))
      have hlt : k < M := by omega
      go_wp2_with fail
      refine (HL.out k (by omega) _ (HT.out.drewN q)).mono ?_
      rintro e w1 ⟨rfl, q3, rfl⟩
      go_wp2_with fail
      go_roundw
      case rel => exact ⟨k + 1, q + q3, by omega, by rw [hs.out], by go_num, rfl⟩
      case measure => simp [intOf]; omega

end Go.Proofs.YtckeefjmamggmaaDoor
