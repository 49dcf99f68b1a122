/-
  Helper: the walk of the reference's Date, and of the examples that every statement checks.
-/
import Derived.Test.YtmnopohjnbpinaaDoorCvDate
namespace Go.Proofs.YtmnopohjnbpinaaDoor
open Go.RowKit
set_option linter.unusedVariables false

set_option maxHeartbeats 400000 in
theorem rdate_no (n : Int) (w : World) (h : n < -719528 ∨ 2932896 < n) : Calls Tryd.prog 16 #[.int .i64 n] w fun e w' => e = .returned (.tuple #[.int .i64 0, .int .i64 0, .int .i64 0, .int .i64 13]) ∧ Below w.heap.size w w' := by
  rcases h with h | h
  · go_enter Tryd.func16, Tryd.ntmps16
    go_wp2_with fail
    (try simp only [Exit.inBlock, Exit.then]); refine bodyPost_ret (results_tmp4 rfl _ _ _) rfl ?_
    exact ⟨rfl, Below.refl _ _⟩
  · have h2 : ¬ n < -719528 := by omega
    go_enter Tryd.func16, Tryd.ntmps16
    go_wp2_with fail
    (try simp only [Exit.inBlock, Exit.then]); refine bodyPost_ret (results_tmp4 rfl _ _ _) rfl ?_
    exact ⟨rfl, Below.refl _ _⟩

set_option maxRecDepth 100000 in
set_option maxHeartbeats 2000000 in
theorem rdate_yes (n : Int) (w : World) (h0 : -719528 ≤ n) (h1 : n ≤ 2932896) : Calls Tryd.prog 16 #[.int .i64 n] w (DateP n w) := by
  have h2 : ¬ n < -719528 := by omega
  have h3 : ¬ 2932896 < n := by omega
  obtain ⟨Po, HPo⟩ : ∃ Po, Hid (Po = DateP n w) := ⟨_, rfl⟩
  rw [← HPo.out]
  obtain ⟨N, G, HN, HNB, HG, H0, HT⟩ : ∃ (N G : Nat → Int), Hid (∀ (k : Nat) (w : World), Calls Tryd.prog 22 #[.int .i64 k] w fun e w' => e = .returned (.int .i64 (N k)) ∧ ∃ q, w' = w.drewN q)
      ∧ Hid (∀ k : Nat, 365 ≤ N k ∧ N k ≤ 366) ∧ Hid (∀ k : Nat, G (k + 1) = G k - N k) ∧ Hid (G 0 = n + 719528) ∧ Hid (G 10000 < 0 ∧ ∀ k, G k = n + 719528 - db k) := by
    refine ⟨fun k => yl k, fun k => n + 719528 - db k, Lib.hid fun k w => ryear_any k w, Lib.hid fun k => ?_, Lib.hid fun k => ?_, Lib.hid ?_, Lib.hid ⟨?_, fun k => rfl⟩⟩
    · show 365 ≤ yl k ∧ yl k ≤ 366
      unfold yl; split <;> omega
    · have := db_step k
      show n + 719528 - db ((k : Int) + 1) = n + 719528 - db k - yl k
      omega
    · have : db 0 = 0 := by decide
      show n + 719528 - db 0 = _
      omega
    · have : db 10000 = 3652425 := by decide
      show n + 719528 - db 10000 < 0
      omega
  go_enter Tryd.func16, Tryd.ntmps16
  go_wp2_with fail
  go_loopw [0, 6] (fun v i wr => ∃ k q : Nat, k ≤ 9999 ∧ v = .int .i64 (G k) ∧ i = .int .i64 k ∧ 0 ≤ G k ∧ G k ≤ 4000000 ∧ wr = w.drewN q) (fun _ i _ => 10000 - (intOf i).toNat)
  case atStart => exact ⟨0, 0, by omega, by rw [H0.out], rfl, by rw [H0.out]; omega, by rw [H0.out]; omega, rfl⟩
  case round =>
    obtain ⟨Y, q, hY, rfl, rfl, hg0, hg1, rfl⟩ := hrel
    have hN := HNB.out Y
    have HNY := Lib.hid (HN.out Y)
    by_cases hlt : G Y < N Y
    · have hyl : G Y = n + 719528 - db Y := HT.out.2 Y
      obtain ⟨V, L, HL, HLB, HV1, HVS, HV13, HE⟩ : ∃ (V L : Nat → Int), Hid (∀ (m : Nat), 1 ≤ m ∧ m < 13 → ∀ (w : World), Calls Tryd.prog 21 #[.int .i64 Y, .int .i64 m] w fun e w' => e = .returned (.int .i64 (L m)) ∧ ∃ q, w' = w.drewN q)
          ∧ Hid (∀ m : Nat, 1 ≤ m → 28 ≤ L m ∧ L m ≤ 31) ∧ Hid (V 1 = G Y ∧ V 1 ≤ 366) ∧ Hid (∀ m : Nat, m ≤ 12 → V (m + 1) = V m - L m) ∧ Hid (V 13 < 0)
          ∧ Hid (∀ m : Nat, 1 ≤ m → m ≤ 12 → 0 ≤ V m → V m < L m → ∀ wr, Below w.heap.size w wr → DateP n w (.returned (.tuple #[.int .i64 Y, .int .i64 m, .int .i64 (V m + 1), .int .i64 0])) wr) := by
        have hdbs := db_step Y
        have hdb1 : G (Y + 1) = n + 719528 - db ((Y + 1 : Nat) : Int) := HT.out.2 (Y + 1)
        have hgs := HG.out Y
        rw [show ((Y + 1 : Nat) : Int) = Y + 1 by omega] at hdb1
        refine ⟨fun m => n + 719528 - db Y - mb (leap Y) m, fun m => ml (leap Y) m, Lib.hid (rlen_any Y), Lib.hid fun m hm => ml_pos _ _ (by omega), Lib.hid ?_, Lib.hid fun m hm => ?_, Lib.hid ?_, Lib.hid fun m hm1 hm12 hv hl wr hbr => ?_⟩
        · have : mb (leap Y) 1 = 0 := by cases leap (Y : Int) <;> decide
          show n + 719528 - db Y - mb (leap Y) 1 = G Y ∧ n + 719528 - db Y - mb (leap Y) 1 ≤ 366
          omega
        · have := mb_step (leap Y) m (by omega) (by omega)
          show n + 719528 - db Y - mb (leap Y) ((m + 1 : Nat) : Int) = n + 719528 - db Y - mb (leap Y) m - ml (leap Y) m
          rw [show ((m + 1 : Nat) : Int) = m + 1 by omega]; omega
        · show n + 719528 - db Y - mb (leap Y) 13 < 0
          rw [mb_13]; omega
        · have hv' : 0 ≤ n + 719528 - db Y - mb (leap Y) m := hv
          have hl' : n + 719528 - db Y - mb (leap Y) m < ml (leap Y) m := hl
          refine ⟨Y, m, n + 719528 - db Y - mb (leap Y) m + 1, ⟨by omega, by omega, by omega, by omega, by omega, by omega⟩, ?_, rfl, hbr⟩
          unfold dn; omega
      have hv1 := HV1.out.2
      have HV11 := Lib.hid HV1.out.1
      clear HT hyl HG H0 HN HV1
      have hv0 : 0 ≤ V 1 := by rw [HV11.out]; exact hg0
      generalize G Y = g at *
      generalize N Y = ny at *
      go_wp2_with fail
      refine (HNY.out _).mono ?_
      rintro e w1 ⟨rfl, q1, rfl⟩
      go_wp2_with fail
      go_loopw [0, 7] (fun v i wr => ∃ m q : Nat, 1 ≤ m ∧ m ≤ 12 ∧ v = .int .i64 (V m) ∧ i = .int .i64 m ∧ 0 ≤ V m ∧ V m ≤ 366 ∧ wr = w.drewN q) (fun _ i _ => 13 - (intOf i).toNat)
      case atStart => exact ⟨1, _, by omega, by omega, by rw [HV11.out], rfl, hv0, hv1, rfl⟩
      case round =>
        obtain ⟨m, q, hm1, hm12, rfl, rfl, hv0, hv1, rfl⟩ := hrel
        have hLb := HLB.out m hm1
        have hLm := Lib.hid (HL.out m (by omega))
        by_cases hlt : V m < L m
        · have hfin := Lib.hid (HE.out m hm1 hm12 hv0 hlt)
          clear HE HL HLB HVS HV13
          generalize V m = v at *
          generalize L m = l at *
          go_wp2_with fail
          refine (hLm.out _).mono ?_
          rintro e w1 ⟨rfl, q1, rfl⟩
          go_wp2_with fail
          (try simp only [Exit.inBlock, Exit.then]); refine bodyPost_ret (results_tmp4 rfl _ _ _) rfl ?_
          rw [HPo.out]
          exact hfin.out _ ⟨rfl, rfl, rfl, Nat.le_refl _, fun _ _ => rfl⟩
        · have hs := HVS.out m hm12
          have hm11 : m < 12 := by
            by_cases e : m = 12
            · subst e
              have := HV13.out
              have h13 : V 13 = V 12 - L 12 := hs
              omega
            · omega
          clear HE HL HLB HVS HV13
          have hsh := Lib.hid hs
          clear hs
          generalize hvv : V m = v at *
          generalize L m = l at *
          have hle : l ≤ v := by omega
          go_wp2_with fail
          refine (hLm.out _).mono ?_
          rintro e w1 ⟨rfl, q1, rfl⟩
          go_wp2_with fail
          refine (hLm.out _).mono ?_
          rintro e w1 ⟨rfl, q2, rfl⟩
          go_wp2_with fail
          go_roundw
          case rel => exact ⟨m + 1, _, by omega, by omega, by rw [hsh.out], by go_num, by rw [hsh.out]; omega, by rw [hsh.out]; omega, rfl⟩
          case measure => simp [intOf]; omega
    · have hs := Lib.hid (HG.out Y)
      have hY2 : Y < 9999 := by
        by_cases e : Y = 9999
        · subst e
          have := HT.out.1
          have h13 : G 10000 = G 9999 - N 9999 := HG.out 9999
          omega
        · omega
      clear HT HG H0 HN
      have hle : N Y ≤ G Y := by omega
      generalize hgg : G Y = g at *
      generalize N Y = ny at *
      go_wp2_with fail
      refine (HNY.out _).mono ?_
      rintro e w1 ⟨rfl, q1, rfl⟩
      go_wp2_with fail
      refine (HNY.out _).mono ?_
      rintro e w1 ⟨rfl, q2, rfl⟩
      go_wp2_with fail
      go_roundw
      case rel => exact ⟨Y + 1, _, by omega, by rw [hs.out], by go_num, by rw [hs.out]; omega, by rw [hs.out]; omega, rfl⟩
      case measure => simp [intOf]; omega
end Go.Proofs.YtmnopohjnbpinaaDoor
