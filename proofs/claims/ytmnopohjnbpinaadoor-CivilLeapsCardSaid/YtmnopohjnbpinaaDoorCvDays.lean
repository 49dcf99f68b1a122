/-
  Helper: the walks of Days, of the program and of the reference.
-/
import Derived.Test.YtmnopohjnbpinaaDoorCvFns
namespace Go.Proofs.YtmnopohjnbpinaaDoor
open Go.RowKit
set_option linter.unusedVariables false

theorem LTab.drewN {w : World} (h : LTab w) (q : Nat) : LTab (w.drewN q) := h
theorem drewN_add (w : World) (a b : Nat) : (w.drewN a).drewN b = w.drewN (a + b) := by
  unfold World.drewN; simp [Nat.add_assoc]
theorem isD_nat (y m d : Int) (h : IsD y m d) : ∃ (M : Nat), m = M ∧ 1 ≤ M ∧ M < 13 := ⟨m.toNat, by obtain ⟨_, _, h1, h2, _⟩ := h; omega⟩
theorem not_isD (y d : Int) (M : Nat) (h : ¬ IsD y M d) (c1 : ¬ y < 0) (c2 : ¬ 9999 < y) (c3 : 1 ≤ M) (c4 : M < 13) (c5 : ¬ d < 1) : ml (leap y) M < d := by
  unfold IsD at h; omega

set_option maxHeartbeats 400000 in
/-- Days of three numbers that are no date -/
theorem days_no (y m d : Int) (w : World) (hT : LTab w) (h : ¬ IsD y m d) : Calls Tryd.prog 11 #[.int .i64 y, .int .i64 m, .int .i64 d] w fun e w' => e = .returned (.tuple #[.int .i64 0, .int .i64 13]) ∧ ∃ q, w' = w.drewN q := by
  by_cases c1 : y < 0
  · clear h hT
    go_enter Tryd.func11, Tryd.ntmps11
    go_wp2_with fail
    go_ret2
    exact ⟨rfl, 0, rfl⟩
  by_cases c2 : 9999 < y
  · clear h hT
    go_enter Tryd.func11, Tryd.ntmps11
    go_wp2_with fail
    go_ret2
    exact ⟨rfl, 0, rfl⟩
  by_cases c3 : m < 1
  · clear h hT
    go_enter Tryd.func11, Tryd.ntmps11
    go_wp2_with fail
    go_ret2
    exact ⟨rfl, 0, rfl⟩
  by_cases c4 : 12 < m
  · clear h hT
    go_enter Tryd.func11, Tryd.ntmps11
    go_wp2_with fail
    go_ret2
    exact ⟨rfl, 0, rfl⟩
  by_cases c5 : d < 1
  · clear h hT
    go_enter Tryd.func11, Tryd.ntmps11
    go_wp2_with fail
    go_ret2
    exact ⟨rfl, 0, rfl⟩
  obtain ⟨M, rfl⟩ : ∃ M : Nat, m = M := ⟨m.toNat, by omega⟩
  have c3 : 1 ≤ M := by omega
  have c4 : M < 13 := by omega
  have c6 := not_isD y d M h c1 c2 c3 c4 c5
  have HL := Lib.hid (len_any y M c4 w hT)
  clear h hT
  generalize ml (leap y) M = x at *
  go_enter Tryd.func11, Tryd.ntmps11
  go_wp2_with fail
  refine HL.out.mono ?_
  rintro e w1 ⟨rfl, q, rfl⟩
  go_wp2_with fail
  go_ret2
  exact ⟨rfl, q, rfl⟩

set_option maxHeartbeats 400000 in
/-- Days of three numbers that are no date -/
theorem rdays_no (y m d : Int) (w : World) (h : ¬ IsD y m d) : Calls Tryd.prog 12 #[.int .i64 y, .int .i64 m, .int .i64 d] w fun e w' => e = .returned (.tuple #[.int .i64 0, .int .i64 13]) ∧ ∃ q, w' = w.drewN q := by
  by_cases c1 : y < 0
  · clear h
    go_enter Tryd.func12, Tryd.ntmps12
    go_wp2_with fail
    go_ret2
    exact ⟨rfl, 0, rfl⟩
  by_cases c2 : 9999 < y
  · clear h
    go_enter Tryd.func12, Tryd.ntmps12
    go_wp2_with fail
    go_ret2
    exact ⟨rfl, 0, rfl⟩
  by_cases c3 : m < 1
  · clear h
    go_enter Tryd.func12, Tryd.ntmps12
    go_wp2_with fail
    go_ret2
    exact ⟨rfl, 0, rfl⟩
  by_cases c4 : 12 < m
  · clear h
    go_enter Tryd.func12, Tryd.ntmps12
    go_wp2_with fail
    go_ret2
    exact ⟨rfl, 0, rfl⟩
  by_cases c5 : d < 1
  · clear h
    go_enter Tryd.func12, Tryd.ntmps12
    go_wp2_with fail
    go_ret2
    exact ⟨rfl, 0, rfl⟩
  obtain ⟨M, rfl⟩ : ∃ M : Nat, m = M := ⟨m.toNat, by omega⟩
  have c3 : 1 ≤ M := by omega
  have c4 : M < 13 := by omega
  have c6 := not_isD y d M h c1 c2 c3 c4 c5
  have HL := Lib.hid (rlen_any y M ⟨c3, c4⟩ w)
  clear h
  generalize ml (leap y) M = x at *
  go_enter Tryd.func12, Tryd.ntmps12
  go_wp2_with fail
  refine HL.out.mono ?_
  rintro e w1 ⟨rfl, q, rfl⟩
  go_wp2_with fail
  go_ret2
  exact ⟨rfl, q, rfl⟩

theorem fk_bounds (y : Int) (h0 : 0 ≤ y) (h1 : y ≤ 9999) (k : Nat) (hk : k ≤ 12) : -719528 ≤ db y - 719528 + mb (leap y) k ∧ db y - 719528 + mb (leap y) k ≤ 4000000 := by
  have := db_bound y h0 (by omega)
  have := mb_bound (leap y) k (by omega) (by omega)
  omega
set_option maxHeartbeats 1000000 in
theorem days_yes (y m d : Int) (w : World) (hT : LTab w) (h : IsD y m d) : Calls Tryd.prog 11 #[.int .i64 y, .int .i64 m, .int .i64 d] w fun e w' => e = .returned (.tuple #[.int .i64 (dn y m d), .int .i64 0]) ∧ ∃ q, w' = w.drewN q := by
  obtain ⟨M, rfl, hM1, hM⟩ := isD_nat y m d h
  obtain ⟨hy0, hy1, _, _, hd0, hd1⟩ := h
  have HD := Lib.hid (db_any y hy0 (by omega))
  have HT := Lib.hid hT
  obtain ⟨F, L, D, E, HL, HB, HM, HS, H0, HE, HDD, hDb, hdM⟩ : ∃ (F L : Nat → Int) (D E : Int), Hid (∀ (k : Nat), k < 13 → ∀ (w : World), LTab w → Calls Tryd.prog 19 #[.int .i64 y, .int .i64 k] w fun e w' => e = .returned (.int .i64 (L k)) ∧ ∃ q, w' = w.drewN q)
      ∧ Hid (∀ k, k ≤ 12 → -719528 ≤ F k ∧ F k ≤ 4000000) ∧ Hid (∀ k : Nat, k ≤ 12 → 0 ≤ L k ∧ L k ≤ 31) ∧ Hid (∀ k : Nat, k ≤ 12 → F (k + 1) = F k + L k) ∧ Hid (D - 719528 = F 0) ∧ Hid (E = F M + d - 1) ∧ Hid (db y = D ∧ dn y M d = E) ∧ (0 ≤ D ∧ D ≤ 4000000) ∧ d ≤ L M := by
    refine ⟨fun k => db y - 719528 + mb (leap y) k, fun k => ml (leap y) k, db y, dn y M d, Lib.hid (len_any y), Lib.hid fun k hk => fk_bounds y hy0 hy1 k hk, Lib.hid fun k _ => ml_bound _ _, Lib.hid fun k hk => ?_, Lib.hid ?_, Lib.hid ?_, Lib.hid ⟨rfl, rfl⟩, ?_, hd1⟩
    · have := mb_step (leap y) k (by omega) (by omega)
      show db y - 719528 + mb (leap y) ((k + 1 : Nat) : Int) = db y - 719528 + mb (leap y) k + ml (leap y) k
      rw [show ((k + 1 : Nat) : Int) = k + 1 by omega]; omega
    · show _ = _ + mb (leap y) 0
      rw [show mb (leap y) 0 = 0 by cases leap y <;> decide]; omega
    · show _ = (db y - 719528 + mb (leap y) M) + d - 1
      unfold dn; omega
    · have := db_bound y hy0 (by omega)
      omega
  rw [HDD.out.2]
  rw [HDD.out.1] at HD
  clear HDD hd1 hT
  have hdm := (HM.out M (by omega)).2
  go_enter Tryd.func11, Tryd.ntmps11
  go_wp2_with fail
  refine (HL.out M hM w HT.out).mono ?_
  rintro e w1 ⟨rfl, q1, rfl⟩
  go_wp2_with fail
  refine (HD.out _).mono ?_
  rintro e w1 ⟨rfl, q2, rfl⟩
  go_wp2_with fail
  go_loopw [8, 39] (fun v i wr => ∃ (k q : Nat), k ≤ M ∧ v = .int .i64 (F k) ∧ i = .int .i64 k ∧ wr = w.drewN q) (fun _ i _ => M - (intOf i).toNat)
  case atStart =>
    exact ⟨0, _, by omega, by rw [H0.out], rfl, rfl⟩
  case round =>
    obtain ⟨k, q, hk, rfl, rfl, rfl⟩ := hrel
    by_cases hkM : k = M
    · subst hkM
      have hb := HB.out k (by omega)
      go_wp2_with fail
      go_ret2
      exact ⟨by rw [HE.out]; rfl, _, rfl⟩
    · have hb := HB.out k (by omega)
      have hc := HM.out k (by omega)
      have hs := Lib.hid (HS.out k (by omega))
      have hlt : k < M := by omega
      go_wp2_with fail
      refine (HL.out k (by omega) _ (HT.out.drewN q)).mono ?_
      rintro e w1 ⟨rfl, q3, rfl⟩
      go_wp2_with fail
      go_roundw
      case rel => exact ⟨k + 1, q + q3, by omega, by rw [hs.out], by go_num, rfl⟩
      case measure => simp [intOf]; omega

set_option maxRecDepth 100000 in
set_option maxHeartbeats 2000000 in
theorem rdays_yes (y m d : Int) (w : World) (h : IsD y m d) : Calls Tryd.prog 12 #[.int .i64 y, .int .i64 m, .int .i64 d] w fun e w' => e = .returned (.tuple #[.int .i64 (dn y m d), .int .i64 0]) ∧ ∃ q, w' = w.drewN q := by
  obtain ⟨M, rfl, hM1, hM⟩ := isD_nat y m d h
  obtain ⟨Y, rfl⟩ : ∃ Y : Nat, y = Y := ⟨y.toNat, by obtain ⟨h, _⟩ := h; omega⟩
  obtain ⟨hy0, hy1, _, _, hd0, hd1⟩ := h
  obtain ⟨F, L, G, N, E, HL, HN, HB, HM, HS, H0, HG, HGB, HNB, HE, HDD, hdM⟩ : ∃ (F L G N : Nat → Int) (E : Int), Hid (∀ (k : Nat), 1 ≤ k ∧ k < 13 → ∀ (w : World), Calls Tryd.prog 21 #[.int .i64 Y, .int .i64 k] w fun e w' => e = .returned (.int .i64 (L k)) ∧ ∃ q, w' = w.drewN q)
      ∧ Hid (∀ (k : Nat) (w : World), Calls Tryd.prog 22 #[.int .i64 k] w fun e w' => e = .returned (.int .i64 (N k)) ∧ ∃ q, w' = w.drewN q)
      ∧ Hid (∀ k, k ≤ 12 → 0 ≤ F k ∧ F k ≤ 366) ∧ Hid (∀ k : Nat, k ≤ 12 → 0 ≤ L k ∧ L k ≤ 31) ∧ Hid (∀ k : Nat, k ≤ 12 → F (k + 1) = F k + L k) ∧ Hid (F 1 = 0) ∧ Hid (∀ k : Nat, G (k + 1) = G k + N k) ∧ Hid (∀ k : Nat, k ≤ 10000 → 0 ≤ G k ∧ G k ≤ 4000000) ∧ Hid (∀ k : Nat, 365 ≤ N k ∧ N k ≤ 366) ∧ Hid (E = d - 1 + F M + (G Y - G 1970)) ∧ Hid (dn Y M d = E) ∧ d ≤ L M := by
    refine ⟨fun k => mb (leap Y) k, fun k => ml (leap Y) k, fun k => db k, fun k => yl k, dn Y M d, Lib.hid fun k hk => rlen_any Y k hk, Lib.hid fun k w => ryear_any k w, Lib.hid fun k hk => mb_bound _ k (by omega) (by omega), Lib.hid fun k _ => ml_bound _ _, Lib.hid fun k hk => ?_, Lib.hid ?_, Lib.hid fun k => db_step k, Lib.hid fun k hk => ?_, Lib.hid fun k => ?_, Lib.hid ?_, Lib.hid rfl, hd1⟩
    · exact mb_step (leap Y) k (by omega) (by omega)
    · show mb (leap Y) 1 = 0
      cases leap Y <;> decide
    · have := db_bound k (by omega) (by omega)
      show 0 ≤ db k ∧ db k ≤ 4000000
      omega
    · show 365 ≤ yl k ∧ yl k ≤ 366
      unfold yl; split <;> omega
    · show dn Y M d = d - 1 + mb (leap Y) M + (db Y - db 1970)
      have : db 1970 = 719528 := by decide
      unfold dn; omega
  rw [HDD.out]
  clear HDD hd1
  have hdm := (HM.out M (by omega)).2
  go_enter Tryd.func12, Tryd.ntmps12
  go_wp2_with fail
  refine (HL.out M ⟨hM1, hM⟩ w).mono ?_
  rintro e w1 ⟨rfl, q1, rfl⟩
  go_wp2_with fail
  go_loopw [8, 9] (fun v i wr => ∃ (k q : Nat), 1 ≤ k ∧ k ≤ M ∧ v = .int .i64 (d - 1 + F k) ∧ i = .int .i64 k ∧ wr = w.drewN q) (fun _ i _ => M - (intOf i).toNat)
  case atStart =>
    exact ⟨1, _, by omega, by omega, by rw [H0.out]; rw [Int.add_zero], rfl, rfl⟩
  case round =>
    obtain ⟨k, q, hk1, hk, rfl, rfl, rfl⟩ := hrel
    by_cases hkM : k = M
    · subst hkM
      have hb := HB.out k (by omega)
      have g70 := HGB.out 1970 (by omega)
      generalize hT : d - 1 + F k = T at *
      have hT0 : 0 ≤ T ∧ T ≤ 400 := by omega
      have HT : Hid (E = T + (G Y - G 1970)) := HE
      clear hT HE hb hdm HL HB HM HS H0
      go_wp2_with fail
      go_loopw [8, 10] (fun v i wr => ∃ (k q : Nat), 1970 ≤ k ∧ (k ≤ Y ∨ k = 1970) ∧ v = .int .i64 (T + (G k - G 1970)) ∧ i = .int .i64 k ∧ wr = w.drewN q) (fun _ i _ => Y - (intOf i).toNat)
      case atStart =>
        exact ⟨1970, _, by omega, by omega, by rw [Int.sub_self, Int.add_zero], rfl, rfl⟩
      case round =>
        obtain ⟨k2, q2, h70, hk2, rfl, rfl, rfl⟩ := hrel
        have gk := HGB.out k2 (by omega)
        have nk := HNB.out k2
        have gs := Lib.hid (HG.out k2)
        generalize hV : T + (G k2 - G 1970) = V at *
        have hVb : -4000000 ≤ V ∧ V ≤ 5000000 := by omega
        have HV : Hid (T + (G k2 - G 1970) = V) := Lib.hid hV
        clear hV gk
        by_cases hlt : k2 < Y
        · go_wp2_with fail
          refine (HN.out k2 _).mono ?_
          rintro e w1 ⟨rfl, q3, rfl⟩
          go_wp2_with fail
          go_roundw
          case rel => exact ⟨k2 + 1, q2 + q3, by omega, by omega, by rw [← HV.out, gs.out]; congr 1; omega, by go_num, rfl⟩
          case measure => simp [intOf]; omega
        · go_wp2_with fail
          go_loopw [8, 11] (fun v i wr => ∃ (k q : Nat), (k ≤ 1970 ∨ k = Y) ∧ Y ≤ k ∧ v = .int .i64 (V + (G Y - G k)) ∧ i = .int .i64 k ∧ wr = w.drewN q ∧ (k ≤ 1970 → k2 = 1970)) (fun _ i _ => 1970 - (intOf i).toNat)
          case atStart =>
            exact ⟨Y, _, by omega, by omega, by rw [Int.sub_self, Int.add_zero], rfl, rfl, by omega⟩
          case round =>
            obtain ⟨k3, q3, hk3, hk3', rfl, rfl, rfl, hk4⟩ := hrel
            have gk := HGB.out k3 (by omega)
            have gy := HGB.out Y (by omega)
            have nk := HNB.out k3
            have gs := Lib.hid (HG.out k3)
            generalize hV : V + (G Y - G k3) = U at *
            have hUb : -9000000 ≤ U ∧ U ≤ 9000000 := by omega
            have HU : Hid (V + (G Y - G k3) = U) := Lib.hid hV
            clear hV gk gy
            by_cases hlt3 : k3 < 1970
            · go_wp2_with fail
              refine (HN.out k3 _).mono ?_
              rintro e w1 ⟨rfl, q4, rfl⟩
              go_wp2_with fail
              go_roundw
              case rel => exact ⟨k3 + 1, q3 + q4, by omega, by omega, by rw [← HU.out, gs.out]; congr 1; omega, by go_num, rfl, by omega⟩
              case measure => simp [intOf]; omega
            · have hfin : Hid (U = E) := Lib.hid (by
                rw [← HU.out, ← HV.out, HT.out]
                by_cases c : k3 = 1970
                · have : k2 = 1970 := hk4 (by omega)
                  subst c; subst this; omega
                · have e3 : k3 = Y := by omega
                  have e2 : k2 = Y := by omega
                  rw [e3, e2]; omega)
              go_wp2_with fail
              go_ret2
              exact ⟨by rw [hfin.out]; rfl, _, rfl⟩
    · have hb := HB.out k (by omega)
      have hc := HM.out k (by omega)
      have hs := Lib.hid (HS.out k (by omega))
      have hlt : k < M := by omega
      go_wp2_with fail
      refine (HL.out k (by omega) _).mono ?_
      rintro e w1 ⟨rfl, q3, rfl⟩
      go_wp2_with fail
      go_roundw
      case rel => exact ⟨k + 1, q + q3, by omega, by omega, by rw [hs.out]; congr 1; omega, by go_num, rfl⟩
      case measure => simp [intOf]; omega
end Go.Proofs.YtmnopohjnbpinaaDoor
