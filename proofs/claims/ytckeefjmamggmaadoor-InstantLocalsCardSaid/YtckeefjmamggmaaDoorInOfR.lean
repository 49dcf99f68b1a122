/-
  Helper: the reference's Of.
-/
import Derived.Test.YtckeefjmamggmaaDoorInShowW
namespace Go.Proofs.YtckeefjmamggmaaDoor
open Go.RowKit
set_option linter.unusedVariables false

def tl (Y M D : Int) (C na : Nat) : List Value := [.bool true, .bool true, .bool true, .int .i64 Y, .int .i64 M, .int .i64 D, .int .i64 ((C / 3600 : Nat) : Int), .int .i64 ((C / 60 % 60 : Nat) : Int), .int .i64 ((C % 60 : Nat) : Int), .int .i64 na, .int .i64 0, .bool false]
def OfT (D C na : Nat) (w : World) (e : Ending) (w' : World) : Prop := ∃ y m d : Nat, IsD y m d ∧ dn y m d = (D : Int) - 719528 ∧ e = .returned (.agg (tl y m d C na).toArray) ∧ Below w.heap.size w w'
def z12 : List Value := [.bool false, .bool false, .bool false, .int .i64 0, .int .i64 0, .int .i64 0, .int .i64 0, .int .i64 0, .int .i64 0, .int .i64 0, .int .i64 0, .bool false]
def SO (N : Nat) (w wr : World) (Y M Dd : Int) (C na : Nat) : Prop := Blk wr (N + 1) 30 (tl Y M Dd C na) ∧ Blk wr N 30 z12 ∧ Below N w wr
theorem SO.drew {N : Nat} {w wr : World} {Y M Dd : Int} {C na : Nat} (h : SO N w wr Y M Dd C na) (q : Nat) : SO N w (wr.drewN q) Y M Dd C na := ⟨h.1, h.2.1, Below.drewN h.2.2 q⟩
theorem SO.set {N : Nat} {w wr : World} {Y M Dd : Int} {C na : Nat} (h : SO N w wr Y M Dd C na) (i : Nat) (v : Value) (X : List Value) (hX : (tl Y M Dd C na).set i v = X) : Blk (wr.setCell ⟨N + 1, i, none⟩ v) (N + 1) 30 X ∧ Blk (wr.setCell ⟨N + 1, i, none⟩ v) N 30 z12 ∧ Below N w (wr.setCell ⟨N + 1, i, none⟩ v) :=
  ⟨hX ▸ h.1.set i v, h.2.1.far (by omega) i v, h.2.2.setCell (by show N ≤ N + 1; omega) _⟩
def yOf (N : Nat) (wr : World) (k : Nat) : Nat := match wr.cell? ⟨N + 1, k, none⟩ with | some (.int _ y) => y.toNat | _ => 0
theorem tl_i (Y M Dd : Int) (C na : Nat) : (Tryd.prog.info? 30).map (·.size) = some (tl Y M Dd C na).toArray.size := by
  have h : (Tryd.prog.info? 30).map (·.size) = some 12 := by kernel_rfl
  rw [h]; rfl
theorem tl_z (Y M Dd : Int) (C na : Nat) : z12.toArray.size = (tl Y M Dd C na).toArray.size := rfl
theorem tl_a (Y M Dd : Int) (C na : Nat) : (tl Y M Dd C na).toArray.all (·.oneCell') = true := by
  rw [Array.all_eq_true_iff_forall_mem]
  intro v hv
  have hv : v ∈ tl Y M Dd C na := by simpa using hv
  simp only [tl, List.mem_cons, List.not_mem_nil, or_false] at hv
  rcases hv with rfl | rfl | rfl | rfl | rfl | rfl | rfl | rfl | rfl | rfl | rfl | rfl <;> rfl
theorem SO.yOf3 {N : Nat} {w wr : World} {Y : Nat} {M Dd : Int} {C na : Nat} (h : SO N w wr Y M Dd C na) : yOf N wr 3 = Y := by
  unfold yOf; rw [h.1.cell 3 _ rfl]; simp
theorem SO.yOf4 {N : Nat} {w wr : World} {Y M : Nat} {Dd : Int} {C na : Nat} (h : SO N w wr Y M Dd C na) : yOf N wr 4 = M := by
  unfold yOf; rw [h.1.cell 4 _ rfl]; simp
set_option maxRecDepth 100000 in
set_option maxHeartbeats 8000000 in
theorem rof_any (D C na : Nat) (n : Int) (hn : n = 86400 * D + C - 62167219200) (hC : C < 86400) (hD : D ≤ 3652424) (hna : na ≤ 999999999) (w : World) : Calls Tryd.prog 20 #[.int .i64 n, .int .i64 na] w (OfT D C na w) := by
  have HDy : Hid (∀ (y : Nat) W, y ≤ 10000 → Calls Tryd.prog 28 #[.int .i64 y, .int .i64 1, .int .i64 1] W fun e w' => e = .returned (.int .i64 (db y - 719528)) ∧ ∃ q, w' = W.drewN q) := fun y W hy => by
    have h9 := rdays_any y 1 1 hy (by omega) (by omega) (by omega) (by omega) W
    have : dn y ((1 : Nat) : Int) 1 = db y - 719528 := by
      have h1 : mb (leap (y : Int)) ((1 : Nat) : Int) = 0 := by cases leap (y : Int) <;> decide
      unfold dn; rw [h1]; omega
    rw [this] at h9
    exact h9
  have HM : Hid (∀ (y m : Nat) W, 1 ≤ m → Calls Tryd.prog 32 #[.int .i64 y, .int .i64 m] W fun e w' => e = .returned (.int .i64 (ml (leap y) m)) ∧ ∃ q, w' = W.drewN q) := fun y m W hm => month_any y m hm W
  have HF : Hid (∀ (y m d : Nat) w', IsD y m d → dn y m d = (D : Int) - 719528 → Below w.heap.size w w' → OfT D C na w (.returned (.agg (tl y m d C na).toArray)) w') := fun y m d w' h1 h2 h3 => ⟨y, m, d, h1, h2, rfl, h3⟩
  have e1 : n - -62167219200 = 86400 * (D : Int) + C := by omega
  have e1b : n + 62167219200 = 86400 * (D : Int) + C := by omega
  have e2 : (86400 * (D : Int) + C).tdiv 86400 = D := by rw [Int.tdiv_eq_ediv_of_nonneg (by omega)]; omega
  have e3 : (86400 * (D : Int) + C).tmod 86400 = C := by rw [Int.tmod_eq_emod_of_nonneg (by omega)]; omega
  have e4 : (C : Int).tdiv 3600 = ((C / 3600 : Nat) : Int) := by rw [Int.tdiv_eq_ediv_of_nonneg (by omega)]; omega
  have e5 : (C : Int).tdiv 60 = ((C / 60 : Nat) : Int) := by rw [Int.tdiv_eq_ediv_of_nonneg (by omega)]; omega
  have e6 : ((C / 60 : Nat) : Int).tmod 60 = ((C / 60 % 60 : Nat) : Int) := by rw [Int.tmod_eq_emod_of_nonneg (by omega)]; omega
  have e7 : (C : Int).tmod 60 = ((C % 60 : Nat) : Int) := by rw [Int.tmod_eq_emod_of_nonneg (by omega)]; omega
  have e8 : (D : Int).tdiv 366 = ((D / 366 : Nat) : Int) := by rw [Int.tdiv_eq_ediv_of_nonneg (by omega)]; omega
  have b3 : (D : Int) ≤ 3652424 := by omega
  generalize OfT D C na w = Po at *
  go_enter Tryd.func20, Tryd.ntmps20
  go_wp2
  obtain ⟨N, hN⟩ : ∃ N, w.heap.size = N := ⟨_, rfl⟩
  have hS0 : Hid (SO N w ((w.alloc (.cells z12.toArray 30)).alloc (.cells (tl ((D / 366 : Nat) : Int) 0 0 C na).toArray 30)) ((D / 366 : Nat) : Int) 0 0 C na) := by
    have b1 := Blk.new w 30 z12
    have b2 := Blk.new (w.alloc (.cells z12.toArray 30)) 30 (tl ((D / 366 : Nat) : Int) 0 0 C na)
    have e : (w.alloc (.cells z12.toArray 30)).heap.size = N + 1 := by simp [hN]
    rw [e] at b2
    rw [hN] at b1
    have hb1 : Below N w (w.alloc (.cells z12.toArray 30)) := (Below.refl N w).alloc (by omega) _
    exact ⟨b2, b1.go ((Below.refl (N + 1) _).alloc (by omega) _) (Nat.lt_succ_self _), hb1.alloc (by omega) _⟩
  rw [show (D : Int) / 366 = ((D / 366 : Nat) : Int) by omega, show (C : Int) / 3600 = ((C / 3600 : Nat) : Int) by omega, show (C : Int) / 60 % 60 = ((C / 60 % 60 : Nat) : Int) by omega, show (C : Int) % 60 = ((C % 60 : Nat) : Int) by omega, hN]
  have hw1 : (w.alloc (.cells #[.bool false, .bool false, .bool false, .int .i64 0, .int .i64 0, .int .i64 0, .int .i64 0, .int .i64 0, .int .i64 0, .int .i64 0, .int .i64 0, .bool false] 30)).alloc (.cells #[.bool true, .bool true, .bool true, .int .i64 ((D / 366 : Nat) : Int), .int .i64 0, .int .i64 0, .int .i64 ((C / 3600 : Nat) : Int), .int .i64 ((C / 60 % 60 : Nat) : Int), .int .i64 ((C % 60 : Nat) : Int), .int .i64 na, .int .i64 0, .bool false] 30) = (w.alloc (.cells z12.toArray 30)).alloc (.cells (tl ((D / 366 : Nat) : Int) 0 0 C na).toArray 30) := rfl
  rw [hw1]
  generalize (w.alloc (.cells z12.toArray 30)).alloc (.cells (tl ((D / 366 : Nat) : Int) 0 0 C na).toArray 30) = wb at *
  rw [hN] at HF
  have hY0 : Hid (db ((D / 366 : Nat) : Int) ≤ D) := by
    show _ ≤ _
    unfold db; omega
  have hDD := Lib.hid (fun (Y : Nat) (h : db ((Y + 1 : Nat) : Int) ≤ D) => show Y + 1 ≤ 9999 from by
    by_cases g : Y + 1 ≤ 9999
    · exact g
    · have h1 := db_mono 10000 ((Y + 1 : Nat) : Int) (by omega)
      have h2 : db 10000 = 3652425 := by decide
      omega)
  clear hw1 hN e1 e1b e2 e3 e4 e5 e6 e7 e8 hn
  go_loopw [] (fun wr => ∃ Y : Nat, Y ≤ 9999 ∧ Hid (db Y ≤ D) ∧ Hid (SO N w wr Y 0 0 C na)) (fun wr => 10000 - yOf N wr 3)
  case atStart => exact ⟨D / 366, by omega, hY0, hS0⟩
  case round =>
    obtain ⟨Y, hY, hdY, hS⟩ := hrel
    have c3 := hS.out.1.cell 3 _ rfl
    have f3 := hS.out.1.free 3
    have HD1 := Lib.hid (fun W => HDy.out (Y + 1) W (by omega))
    have ey : Hid (((Y + 1 : Nat) : Int) = (Y : Int) + 1) := by show _ = _; omega
    rw [ey.out] at HD1
    have hdb := db_bound ((Y : Int) + 1) (by omega) (by omega)
    go_wp2_with fail
    refine (HD1.out _).mono ?_
    rintro e w2 ⟨rfl, q, rfl⟩
    have c3q : (wr.drewN q).cell? ⟨N + 1, 3, none⟩ = some (.int .i64 Y) := c3
    have f3q : (wr.drewN q).frozen? ⟨N + 1, 3, none⟩ = false := f3
    by_cases hle : db ((Y : Int) + 1) ≤ D
    · have hY1 : Y + 1 ≤ 9999 := hDD.out Y (by rw [ey.out]; exact hle)
      have hdY1 : Hid (db ((Y + 1 : Nat) : Int) ≤ D) := by rw [ey.out]; exact hle
      have hS2 : Hid (SO N w ((wr.drewN q).setCell ⟨N + 1, 3, none⟩ (.int .i64 ((Y : Int) + 1))) ((Y + 1 : Nat) : Int) 0 0 C na) := (hS.out.drew q).set 3 (.int .i64 ((Y : Int) + 1)) _ (by rw [ey.out]; rfl)
      clear HD1 hdY hDD HF
      generalize db ((Y : Int) + 1) = dy at *
      go_wp2
      go_roundw
      case rel => exact ⟨_, _, _, _, _, _, _, _, _, _, _, ⟨Y + 1, hY1, hdY1, hS2⟩, rfl⟩
      case measure => rw [hS2.out.yOf3, hS.out.yOf3]; omega
    · have hgt : Hid ((D : Int) < db ((Y : Int) + 1)) := by show _ < _; omega
      have HD0 := Lib.hid (fun W => HDy.out Y W (by omega))
      have hdY0 := hdY.out
      have hdYh := Lib.hid hdY.out
      have hb0 := db_bound (Y : Int) (by omega) (by omega)
      have hyl : Hid ((D : Int) - db Y < 366) := by
        have h1 := db_step (Y : Int)
        have h2 : yl (Y : Int) ≤ 366 := by unfold yl; split <;> omega
        show _ < _; omega
      have hyl2 := hyl.out
      have c4q : (wr.drewN q).cell? ⟨N + 1, 4, none⟩ = some (.int .i64 0) := hS.out.1.cell 4 _ rfl
      have f4q : (wr.drewN q).frozen? ⟨N + 1, 4, none⟩ = false := hS.out.1.free 4
      clear HD1 hdY hDD HDy hdb ey
      have hng : ¬ db ((Y : Int) + 1) - 719528 ≤ (D : Int) - 719528 := by omega
      clear hle
      generalize hd1 : db ((Y : Int) + 1) = dy1 at *
      generalize hd0 : db (Y : Int) = dy0 at *
      have hd1h := Lib.hid hd1
      have hd0h := Lib.hid hd0
      clear hd1 hd0
      go_wp2_with fail
      refine (HD0.out _).mono ?_
      rintro e w3 ⟨rfl, q2, rfl⟩
      have c4r : (wr.drewN (q + q2)).cell? ⟨N + 1, 4, none⟩ = some (.int .i64 0) := hS.out.1.cell 4 _ rfl
      have f4r : (wr.drewN (q + q2)).frozen? ⟨N + 1, 4, none⟩ = false := hS.out.1.free 4
      clear HD0 c3 f3 c3q f3q
      go_wp2
      have hS3 : Hid (SO N w ((wr.drewN (q + q2)).setCell ⟨N + 1, 4, none⟩ (.int .i64 1)) Y ((1 : Nat) : Int) 0 C na) := (hS.out.drew (q + q2)).set 4 (.int .i64 1) _ rfl
      rw [show (D : Int) - 719528 - (dy0 - 719528) = D - dy0 by omega]
      generalize (wr.drewN (q + q2)).setCell ⟨N + 1, 4, none⟩ (.int .i64 1) = wm at *
      obtain ⟨V, hV1, hVs, hVe, hVb, hVF⟩ : ∃ V : Nat → Int, Hid (V 1 = D - dy0) ∧ Hid (∀ m : Nat, 1 ≤ m → m ≤ 12 → V m - ml (leap (Y : Int)) m = V (m + 1)) ∧ Hid (∀ m : Nat, 1 ≤ m → m ≤ 12 → ml (leap (Y : Int)) m ≤ V m → m + 1 ≤ 12) ∧ Hid (∀ m : Nat, 1 ≤ m → m ≤ 12 → V m ≤ 400) ∧ Hid (∀ (m : Nat) w', 1 ≤ m → m ≤ 12 → 0 ≤ V m → V m < ml (leap (Y : Int)) m → Below N w w' → Po (.returned (.agg (tl Y m (V m + 1) C na).toArray)) w') := by
        have hst := db_step (Y : Int)
        have h13 := mb_13 (Y : Int)
        have hg := hgt.out
        have hd1 := hd1h.out
        have hd0 := hd0h.out
        refine ⟨fun m => D - dy0 - mb (leap (Y : Int)) m, Lib.hid ?_, Lib.hid fun m hm hm2 => ?_, Lib.hid fun m hm hm2 hv => ?_, Lib.hid fun m hm hm2 => ?_, Lib.hid fun m w' hm hm2 hv0 hv hbw => ?_⟩
        · have : mb (leap (Y : Int)) ((1 : Nat) : Int) = 0 := by cases leap (Y : Int) <;> decide
          show (D : Int) - dy0 - mb (leap (Y : Int)) ((1 : Nat) : Int) = _
          omega
        · have := mb_step (leap (Y : Int)) m (by omega) (by omega)
          show (D : Int) - dy0 - mb (leap (Y : Int)) m - ml (leap (Y : Int)) m = D - dy0 - mb (leap (Y : Int)) ((m + 1 : Nat) : Int)
          rw [show ((m + 1 : Nat) : Int) = (m : Int) + 1 by omega, this]; omega
        · have := mb_step (leap (Y : Int)) m (by omega) (by omega)
          have hv' : ml (leap (Y : Int)) m ≤ D - dy0 - mb (leap (Y : Int)) m := hv
          by_cases g : m = 12
          · subst g
            have h9 : mb (leap (Y : Int)) (((12 : Nat) : Int) + 1) = mb (leap (Y : Int)) 13 := rfl
            omega
          · omega
        · have := mb_bound (leap (Y : Int)) m (by omega) (by omega)
          show (D : Int) - dy0 - mb (leap (Y : Int)) m ≤ 400
          omega
        · have hv0' : 0 ≤ D - dy0 - mb (leap (Y : Int)) m := hv0
          have hv' : D - dy0 - mb (leap (Y : Int)) m < ml (leap (Y : Int)) m := hv
          obtain ⟨d, hd⟩ : ∃ d : Nat, (D : Int) - dy0 - mb (leap (Y : Int)) m + 1 = d := ⟨((D : Int) - dy0 - mb (leap (Y : Int)) m + 1).toNat, by omega⟩
          have := HF.out Y m d w' ⟨by omega, by omega, by omega, by omega, by omega, by omega⟩ (by unfold dn; omega) hbw
          rw [← hd] at this
          exact this
      have hV10 : Hid (0 ≤ V 1) := Lib.hid (by rw [hV1.out]; omega)
      clear hVb HF
      go_loopw [6] (fun nv wr => ∃ M : Nat, 1 ≤ M ∧ M ≤ 12 ∧ nv = .int .i64 (V M) ∧ Hid (0 ≤ V M ∧ V M ≤ 400) ∧ Hid (SO N w wr Y M 0 C na)) (fun _ wr => 13 - yOf N wr 4)
      case atStart => exact ⟨1, by omega, by omega, by rw [hV1.out], Lib.hid ⟨hV10.out, by rw [hV1.out]; omega⟩, hS3⟩
      case round =>
        obtain ⟨M, hM1, hM12, rfl, hV0, hS4⟩ := hrel
        have c3 := hS4.out.1.cell 3 _ rfl
        have c4 := hS4.out.1.cell 4 _ rfl
        have HMo := Lib.hid (fun W => HM.out Y M W hM1)
        have hlb := ml_bound (leap (Y : Int)) M
        have hv0 := hV0.out
        have hs := Lib.hid (hVs.out M hM1 hM12)
        have he := Lib.hid (hVe.out M hM1 hM12)
        have hF := Lib.hid (fun w' => hVF.out M w' hM1 hM12 hv0.1)
        clear hVs hVe hVF hV1 hV10 HM
        generalize ml (leap (Y : Int)) M = L at *
        go_wp2_with fail
        refine (HMo.out _).mono ?_
        rintro e w3 ⟨rfl, q3, rfl⟩
        by_cases hl : L ≤ V M
        · have hM2 := he.out hl
          have c3q : (wr.drewN q3).cell? ⟨N + 1, 3, none⟩ = some (.int .i64 Y) := c3
          have c4q : (wr.drewN q3).cell? ⟨N + 1, 4, none⟩ = some (.int .i64 M) := c4
          have hVh : Hid (0 ≤ V (M + 1) ∧ V (M + 1) ≤ 400) := Lib.hid (by rw [← hs.out]; omega)
          clear hF he hV0
          go_wp2_with fail
          refine (HMo.out _).mono ?_
          rintro e w4 ⟨rfl, q4, rfl⟩
          have c4r : (wr.drewN (q3 + q4)).cell? ⟨N + 1, 4, none⟩ = some (.int .i64 M) := c4
          have f4r : (wr.drewN (q3 + q4)).frozen? ⟨N + 1, 4, none⟩ = false := hS4.out.1.free 4
          have hS5 : Hid (SO N w ((wr.drewN (q3 + q4)).setCell ⟨N + 1, 4, none⟩ (.int .i64 ((M : Int) + 1))) Y ((M + 1 : Nat) : Int) 0 C na) := (hS4.out.drew (q3 + q4)).set 4 (.int .i64 ((M : Int) + 1)) _ (by rw [show ((M + 1 : Nat) : Int) = (M : Int) + 1 by omega]; rfl)
          clear HMo
          go_wp2
          go_roundw
          case rel => exact ⟨M + 1, by omega, hM2, by rw [← hs.out], hVh, hS5⟩
          case measure => rw [hS5.out.yOf4, hS4.out.yOf4]; omega
        · have hl2 : V M < L := by omega
          have f5q : (wr.drewN q3).frozen? ⟨N + 1, 5, none⟩ = false := hS4.out.1.free 5
          have c5q : (wr.drewN q3).cell? ⟨N + 1, 5, none⟩ = some (.int .i64 0) := hS4.out.1.cell 5 _ rfl
          have hS5 := Lib.hid ((hS4.out.drew q3).set 5 (.int .i64 (V M + 1)) (tl Y M (V M + 1) C na) rfl)
          clear HMo he hs hV0
          have hbT := hS5.out.1
          have hbR := hS5.out.2.1
          have hBL := Lib.hid hS5.out.2.2
          have hFi := Lib.hid (fun w' => hF.out w' hl2)
          clear hF
          have t1 := Lib.hid (tl_i Y M (V M + 1) C na)
          have t2 := Lib.hid (tl_z Y M (V M + 1) C na)
          have t3 := Lib.hid (tl_a Y M (V M + 1) C na)
          have hbRh := Lib.hid hbR
          have hbTh := Lib.hid hbT
          clear hbR hbT
          generalize hY9 : tl Y M (V M + 1) C na = TT at *
          have hYh := Lib.hid hY9
          clear hY9 hS5
          go_wp2_with (first | (refine wpList_load_row rfl 30 (.tmp 5) rfl (N + 1) rfl 30 _ _ _ hbTh.out Tryd.underlying30 rfl t1.out ?_) | (refine wpList_store_row rfl 30 (.tmp 4) (.tmp 68) rfl N _ rfl rfl 30 _ hbRh.out t1.out t2.out t3.out ?_))
          exact bodyPost_ret (v := .agg TT.toArray) (results_cell_row rfl _ _ N 30 _ _ _ rfl (setRow_heap _ _ _ _ _ _ hbRh.out) Tryd.underlying30 rfl t1.out) rfl (hFi.out _ (below_row hBL.out (Nat.le_refl _) _))
end Go.Proofs.YtckeefjmamggmaaDoor
