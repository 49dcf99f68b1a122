/-
  Helper: the walk of the reference's zone.
-/
import Derived.Test.YtckeefjmamggmaaDoorInRd2
namespace Go.Proofs.YtckeefjmamggmaaDoor
open Go.RowKit
set_option linter.unusedVariables false
set_option linter.unusedSimpArgs false

def zoneR (l : List UInt8) (p : Nat) (t : RT) : RT × Int :=
  if isF l p 90 = true then ({ t with zn := true }, (p : Int) + 1)
  else if (isF l p 43 = true ∨ isF l p 45 = true) ∧ 0 ≤ twoF l (p + 1) 2 ∧ 0 ≤ twoF l (p + 4) 2 ∧ isF l (p + 3) 58 = true then
    ({ t with zn := true, late := decide (23 < twoF l (p + 1) 2 ∨ 59 < twoF l (p + 4) 2), off := if isF l p 45 = true then -(3600 * twoF l (p + 1) 2 + 60 * twoF l (p + 4) 2) else 3600 * twoF l (p + 1) 2 + 60 * twoF l (p + 4) 2 }, (p : Int) + 6)
  else ({ t with zn := true }, -1)
theorem fin_zone (tmps : Array Value) (W : World) (N : Nat) (t : RT) (b : Value) (hp : tmps.getD 6 undef = .pointer (some ⟨N, 0, none⟩)) (hb : tmps.getD 7 undef = b) (h : Blk W N 30 t.v) :
    (results Tryd.f26 tmps).run Tryd.prog W = .ok (.tuple #[.agg t.v.toArray, b]) W := by
  rw [results_row_tmp (p := 6) (t := 7) (ty := 30) rfl tmps W N t.v.toArray hp (load_T h), hb]
theorem twoF_le (l : List UInt8) (p : Nat) : twoF l p 2 ≤ 99 := by
  unfold twoF
  split
  · rename_i h
    obtain ⟨h1, h2⟩ := (rn_full_iff l p 2).1 h
    have h3 := numv_lt _ h2
    rw [h1] at h3
    omega
  · omega
set_option maxRecDepth 100000 in
set_option maxHeartbeats 8000000 in
theorem rzone_any (s : ByteArray) (p : Nat) (t : RT) (hs : s.size ≤ 1000000) (hp : p ≤ 1000000) (w : World) : Calls Tryd.prog 26 #[.string s, .int .i64 p, .agg t.v.toArray] w (TupP (zoneR s.data.toList p t) w) := by
  obtain ⟨wb, hwb⟩ : ∃ wb, (w.alloc (.cells t.v.toArray 30)).alloc (.cells RT.zero.v.toArray 30) = wb := ⟨_, rfl⟩
  have hT0 : Hid (TB w.heap.size w wb t RT.zero) := by rw [← hwb]; exact TB.start w t
  obtain ⟨N, hN⟩ : ∃ N, w.heap.size = N := ⟨_, rfl⟩
  have hN1 : (w.alloc (.cells t.v.toArray 30)).heap.size = N + 1 := by simp [hN]
  have H1 := Lib.hid (fun (wc W : World) (hW : Below wc.heap.size wc W) => two_at s (p + 1) 2 ((p : Int) + 1) (by omega) hs (by omega) (by omega) (by omega) wc W hW)
  have H2 := Lib.hid (fun (wc W : World) (hW : Below wc.heap.size wc W) => two_at s (p + 4) 2 ((p : Int) + 4) (by omega) hs (by omega) (by omega) (by omega) wc W hW)
  have KZ := Lib.hid (fun (wc W : World) (hW : Below wc.heap.size wc W) => is_at s p 90 (p : Int) 90 rfl rfl hs (by omega) wc W hW)
  have KP := Lib.hid (fun (wc W : World) (hW : Below wc.heap.size wc W) => is_at s p 43 (p : Int) 43 rfl rfl hs (by omega) wc W hW)
  have KM := Lib.hid (fun (wc W : World) (hW : Below wc.heap.size wc W) => is_at s p 45 (p : Int) 45 rfl rfl hs (by omega) wc W hW)
  have KC := Lib.hid (fun (wc W : World) (hW : Below wc.heap.size wc W) => is_at s (p + 3) 58 ((p : Int) + 3) 58 (by omega) rfl hs (by omega) wc W hW)
  have HF : Hid (∀ x w', zoneR s.data.toList p t = x → Below w.heap.size w w' → TupP (zoneR s.data.toList p t) w (.returned (.tuple #[.agg x.1.v.toArray, .int .i64 x.2])) w') := fun x w' h1 h2 => by rw [h1]; exact ⟨rfl, h2⟩
  have HD : Hid (zoneR s.data.toList p t = if isF s.data.toList p 90 = true then ({ t with zn := true }, (p : Int) + 1)
    else if (isF s.data.toList p 43 = true ∨ isF s.data.toList p 45 = true) ∧ 0 ≤ twoF s.data.toList (p + 1) 2 ∧ 0 ≤ twoF s.data.toList (p + 4) 2 ∧ isF s.data.toList (p + 3) 58 = true then
    ({ t with zn := true, late := decide (23 < twoF s.data.toList (p + 1) 2 ∨ 59 < twoF s.data.toList (p + 4) 2), off := if isF s.data.toList p 45 = true then -(3600 * twoF s.data.toList (p + 1) 2 + 60 * twoF s.data.toList (p + 4) 2) else 3600 * twoF s.data.toList (p + 1) 2 + 60 * twoF s.data.toList (p + 4) 2 }, (p : Int) + 6)
    else ({ t with zn := true }, -1)) := rfl
  have hls : s.data.toList.length = s.size := by simp
  have HB43 : Hid (isF s.data.toList p 43 = true → ∃ h : p < s.size, s[p] = 43) := fun h => by
    obtain ⟨h2, h3⟩ := of_decide_eq_true h
    have h4 : p < s.size := by omega
    exact ⟨h4, by rw [← ba_getD s p h4]; exact h3⟩
  have HB45 : Hid (isF s.data.toList p 45 = true → ∃ h : p < s.size, s[p] = 45) := fun h => by
    obtain ⟨h2, h3⟩ := of_decide_eq_true h
    have h4 : p < s.size := by omega
    exact ⟨h4, by rw [← ba_getD s p h4]; exact h3⟩
  have HNB : Hid (isF s.data.toList p 43 = true → isF s.data.toList p 45 = false) := fun h => by
    have h3 := (of_decide_eq_true h).2
    show _ = _
    unfold isF
    rw [decide_eq_false]
    rintro ⟨_, h5⟩
    rw [h3] at h5
    exact absurd h5 (by decide)
  have hA9 := twoF_le s.data.toList (p + 1)
  have hB9 := twoF_le s.data.toList (p + 4)
  clear hls
  rw [hN] at HF hT0
  generalize TupP (zoneR s.data.toList p t) w = Po at *
  generalize zoneR s.data.toList p t = R at *
  generalize twoF s.data.toList (p + 1) 2 = A at *
  generalize twoF s.data.toList (p + 4) 2 = B at *
  generalize isF s.data.toList p 90 = bz at *
  generalize isF s.data.toList p 43 = bp at *
  generalize isF s.data.toList p 45 = bm at *
  generalize isF s.data.toList (p + 3) 58 = bc at *
  have hz := zeroT
  have hpI : (p : Int) ≤ 1000000 := by omega
  clear hs
  have c2 := hT0.out.a.cell 2 (.bool t.zn) rfl
  have f2 := hT0.out.a.free 2
  have hT1 := Lib.hid (hT0.out.set 2 (.bool true) { t with zn := true } rfl)
  obtain ⟨t1, ht1⟩ : ∃ t1 : RT, ({ t with zn := true } : RT) = t1 := ⟨_, rfl⟩
  have ht2 : Hid (∀ (b : Bool) (o : Int), ({ t with zn := true, late := b, off := o } : RT) = { t1 with late := b, off := o }) := fun b o => by rw [← ht1]
  rw [ht1, ht2.out] at HD
  rw [ht1] at hT1
  clear ht1 ht2
  go_enter Tryd.func26, Tryd.ntmps26
  go_upto_region 2 with fail
  clear hwb hN1
  generalize wb.setCell ⟨N, 2, none⟩ (.bool true) = wc at *
  clear c2 f2 hT0 hz
  go_wp2_with fail
  refine (KZ.out wc _ (Below.refl _ _)).mono ?_
  rintro e w1 ⟨rfl, q1⟩
  have p1 := Lib.hid q1
  clear q1
  cases bz with
  | true =>
    have hR := Lib.hid (HD.out.trans (if_pos (by first | rfl | trivial)))
    have hTb := Lib.hid (hT1.out.go p1.out)
    have hfin := Lib.hid (HF.out _ _ hR.out (hTb.out.put t1).below)
    clear HF HD hR H1 H2 KZ KP KM KC
    go_wp2_with (first | (refine wpList_load_row rfl 30 (.tmp 5) rfl N rfl 30 _ _ _ hTb.out.a Tryd.underlying30 rfl (rt_i t1) ?_) | (refine wpList_store_row rfl 30 (.tmp 6) (.tmp 14) rfl (N + 1) _ rfl rfl 30 _ hTb.out.b (rt_i t1) (rt_z _ t1) (rt_one t1) ?_))
    exact bodyPost_ret (v := .tuple #[.agg t1.v.toArray, .int .i64 ((p : Int) + 1)]) (fin_zone _ _ (N + 1) t1 _ rfl rfl (hTb.out.put t1).b) rfl hfin.out
  | false =>
    replace HD := Lib.hid (HD.out.trans (if_neg (by simp)))
    have H1c := Lib.hid (H1.out wc)
    have H2c := Lib.hid (H2.out wc)
    have KPc := Lib.hid (KP.out wc)
    have KMc := Lib.hid (KM.out wc)
    have KCc := Lib.hid (KC.out wc)
    clear H1 H2 KZ KP KM KC
    go_wp2_with fail
    refine (H1c.out _ p1.out).mono ?_
    rintro e w2 ⟨rfl, q2⟩
    have p2 := Lib.hid q2
    clear q2
    go_wp2_with fail
    refine (H2c.out _ p2.out).mono ?_
    rintro e w3 ⟨rfl, q3⟩
    have p3 := Lib.hid q3
    clear q3
    go_wp2_with fail
    refine (KPc.out _ p3.out).mono ?_
    rintro e w4 ⟨rfl, q4⟩
    have p4 := Lib.hid q4
    clear q4
    cases bp with
    | true =>
      by_cases hA : A < 0
      · skip
        have hR := Lib.hid (HD.out.trans (if_neg (by omega)))
        have hTb := Lib.hid (hT1.out.go p4.out)
        have hfin := Lib.hid (HF.out _ _ hR.out (hTb.out.put t1).below)
        clear HF HD hR
        go_wp2_with (first | (refine wpList_load_row rfl 30 (.tmp 5) rfl N rfl 30 _ _ _ hTb.out.a Tryd.underlying30 rfl (rt_i t1) ?_) | (refine wpList_store_row rfl 30 (.tmp 6) (.tmp 50) rfl (N + 1) _ rfl rfl 30 _ hTb.out.b (rt_i t1) (rt_z _ t1) (rt_one t1) ?_))
        exact bodyPost_ret (v := .tuple #[.agg t1.v.toArray, .int .i64 (-1)]) (fin_zone _ _ (N + 1) t1 _ rfl rfl (hTb.out.put t1).b) rfl hfin.out
      · by_cases hB : B < 0
        · skip
          have hR := Lib.hid (HD.out.trans (if_neg (by omega)))
          have hTb := Lib.hid (hT1.out.go p4.out)
          have hfin := Lib.hid (HF.out _ _ hR.out (hTb.out.put t1).below)
          clear HF HD hR
          go_wp2_with (first | (refine wpList_load_row rfl 30 (.tmp 5) rfl N rfl 30 _ _ _ hTb.out.a Tryd.underlying30 rfl (rt_i t1) ?_) | (refine wpList_store_row rfl 30 (.tmp 6) (.tmp 50) rfl (N + 1) _ rfl rfl 30 _ hTb.out.b (rt_i t1) (rt_z _ t1) (rt_one t1) ?_))
          exact bodyPost_ret (v := .tuple #[.agg t1.v.toArray, .int .i64 (-1)]) (fin_zone _ _ (N + 1) t1 _ rfl rfl (hTb.out.put t1).b) rfl hfin.out
        · go_wp2_with fail
          refine (KCc.out _ p4.out).mono ?_
          rintro e w6 ⟨rfl, q6⟩
          have p6 := Lib.hid q6
          clear q6 KCc KMc KPc H1c H2c
          cases bc with
          | false =>
            have hR := Lib.hid (HD.out.trans (if_neg (by simp)))
            have hTb := Lib.hid (hT1.out.go p6.out)
            have hfin := Lib.hid (HF.out _ _ hR.out (hTb.out.put t1).below)
            clear HF HD hR
            go_wp2_with (first | (refine wpList_load_row rfl 30 (.tmp 5) rfl N rfl 30 _ _ _ hTb.out.a Tryd.underlying30 rfl (rt_i t1) ?_) | (refine wpList_store_row rfl 30 (.tmp 6) (.tmp 50) rfl (N + 1) _ rfl rfl 30 _ hTb.out.b (rt_i t1) (rt_z _ t1) (rt_one t1) ?_))
            exact bodyPost_ret (v := .tuple #[.agg t1.v.toArray, .int .i64 (-1)]) (fin_zone _ _ (N + 1) t1 _ rfl rfl (hTb.out.put t1).b) rfl hfin.out
          | true =>
            replace HD := Lib.hid (HD.out.trans (if_pos (by refine ⟨?_, by omega, by omega, ?_⟩ <;> first | exact Or.inl rfl | exact Or.inr rfl | rfl | trivial | simp)))
            have hTb := Lib.hid (hT1.out.go p6.out)
            obtain ⟨hps, hpb⟩ := HB43.out (by first | rfl | trivial)
            have hpsI : (p : Int) < (s.size : Int) := by omega
            have c11 := hTb.out.a.cell 11 (.bool t1.late) rfl
            have f11 := hTb.out.a.free 11
            have c10 := hTb.out.a.cell 10 (.int .i64 t1.off) rfl
            have f10 := hTb.out.a.free 10
            have hbm := HNB.out (by first | rfl | trivial)
            subst hbm
            by_cases hA3 : 23 < A
            · skip
              have hlt : decide (23 < A ∨ 59 < B) = true := by first | exact Bool.decide_or _ _ | (simp; omega)
              rw [hlt] at HD
              have hT5 : Hid (TB N w ((w6.setCell ⟨N, 11, none⟩ (.bool true)).setCell ⟨N, 10, none⟩ (.int .i64 (3600 * A + 60 * B))) ({ t1 with late := true, off := (3600 * A + 60 * B) } : RT) RT.zero) := (hTb.out.set 11 (.bool true) { t1 with late := true } rfl).set 10 (.int .i64 (3600 * A + 60 * B)) ({ t1 with late := true, off := (3600 * A + 60 * B) } : RT) rfl
              obtain ⟨t2, ht2⟩ : ∃ t2 : RT, ({ t1 with late := true, off := (3600 * A + 60 * B) } : RT) = t2 := ⟨_, rfl⟩
              have hR : Hid (R = (t2, (p : Int) + 6)) := HD.out.trans (by rw [← ht2]; first | rfl | (rw [if_neg (by simp)]) | (rw [if_pos rfl]) | simp)
              rw [ht2] at hT5
              have hfin := Lib.hid (HF.out _ _ hR.out (hT5.out.put t2).below)
              clear HF HD hR ht2 hlt
              go_upto_region 11 with fail
              generalize ((w6.setCell ⟨N, 11, none⟩ (.bool true)).setCell ⟨N, 10, none⟩ (.int .i64 (3600 * A + 60 * B))) = wd at *
              clear c11 f11 c10 f10
              go_wp2_with (first | (refine wpList_load_row rfl 30 (.tmp 5) rfl N rfl 30 _ _ _ hT5.out.a Tryd.underlying30 rfl (rt_i t2) ?_) | (refine wpList_store_row rfl 30 (.tmp 6) (.tmp 72) rfl (N + 1) _ rfl rfl 30 _ hT5.out.b (rt_i t2) (rt_z _ t2) (rt_one t2) ?_))
              exact bodyPost_ret (v := .tuple #[.agg t2.v.toArray, .int .i64 ((p : Int) + 6)]) (fin_zone _ _ (N + 1) t2 _ rfl rfl (hT5.out.put t2).b) rfl hfin.out
            · by_cases hB3 : 59 < B
              · skip
                have hlt : decide (23 < A ∨ 59 < B) = true := by first | exact Bool.decide_or _ _ | (simp; omega)
                rw [hlt] at HD
                have hT5 : Hid (TB N w ((w6.setCell ⟨N, 11, none⟩ (.bool true)).setCell ⟨N, 10, none⟩ (.int .i64 (3600 * A + 60 * B))) ({ t1 with late := true, off := (3600 * A + 60 * B) } : RT) RT.zero) := (hTb.out.set 11 (.bool true) { t1 with late := true } rfl).set 10 (.int .i64 (3600 * A + 60 * B)) ({ t1 with late := true, off := (3600 * A + 60 * B) } : RT) rfl
                obtain ⟨t2, ht2⟩ : ∃ t2 : RT, ({ t1 with late := true, off := (3600 * A + 60 * B) } : RT) = t2 := ⟨_, rfl⟩
                have hR : Hid (R = (t2, (p : Int) + 6)) := HD.out.trans (by rw [← ht2]; first | rfl | (rw [if_neg (by simp)]) | (rw [if_pos rfl]) | simp)
                rw [ht2] at hT5
                have hfin := Lib.hid (HF.out _ _ hR.out (hT5.out.put t2).below)
                clear HF HD hR ht2 hlt
                go_upto_region 11 with fail
                generalize ((w6.setCell ⟨N, 11, none⟩ (.bool true)).setCell ⟨N, 10, none⟩ (.int .i64 (3600 * A + 60 * B))) = wd at *
                clear c11 f11 c10 f10
                go_wp2_with (first | (refine wpList_load_row rfl 30 (.tmp 5) rfl N rfl 30 _ _ _ hT5.out.a Tryd.underlying30 rfl (rt_i t2) ?_) | (refine wpList_store_row rfl 30 (.tmp 6) (.tmp 72) rfl (N + 1) _ rfl rfl 30 _ hT5.out.b (rt_i t2) (rt_z _ t2) (rt_one t2) ?_))
                exact bodyPost_ret (v := .tuple #[.agg t2.v.toArray, .int .i64 ((p : Int) + 6)]) (fin_zone _ _ (N + 1) t2 _ rfl rfl (hT5.out.put t2).b) rfl hfin.out
              · skip
                have hlt : decide (23 < A ∨ 59 < B) = (decide (23 < A) || decide (59 < B)) := by first | exact Bool.decide_or _ _ | (simp; omega)
                rw [hlt] at HD
                have hT5 : Hid (TB N w ((w6.setCell ⟨N, 11, none⟩ (.bool (decide (23 < A) || decide (59 < B)))).setCell ⟨N, 10, none⟩ (.int .i64 (3600 * A + 60 * B))) ({ t1 with late := (decide (23 < A) || decide (59 < B)), off := (3600 * A + 60 * B) } : RT) RT.zero) := (hTb.out.set 11 (.bool (decide (23 < A) || decide (59 < B))) { t1 with late := (decide (23 < A) || decide (59 < B)) } rfl).set 10 (.int .i64 (3600 * A + 60 * B)) ({ t1 with late := (decide (23 < A) || decide (59 < B)), off := (3600 * A + 60 * B) } : RT) rfl
                obtain ⟨t2, ht2⟩ : ∃ t2 : RT, ({ t1 with late := (decide (23 < A) || decide (59 < B)), off := (3600 * A + 60 * B) } : RT) = t2 := ⟨_, rfl⟩
                have hR : Hid (R = (t2, (p : Int) + 6)) := HD.out.trans (by rw [← ht2]; first | rfl | (rw [if_neg (by simp)]) | (rw [if_pos rfl]) | simp)
                rw [ht2] at hT5
                have hfin := Lib.hid (HF.out _ _ hR.out (hT5.out.put t2).below)
                clear HF HD hR ht2 hlt
                go_upto_region 11 with fail
                generalize ((w6.setCell ⟨N, 11, none⟩ (.bool (decide (23 < A) || decide (59 < B)))).setCell ⟨N, 10, none⟩ (.int .i64 (3600 * A + 60 * B))) = wd at *
                clear c11 f11 c10 f10
                go_wp2_with (first | (refine wpList_load_row rfl 30 (.tmp 5) rfl N rfl 30 _ _ _ hT5.out.a Tryd.underlying30 rfl (rt_i t2) ?_) | (refine wpList_store_row rfl 30 (.tmp 6) (.tmp 72) rfl (N + 1) _ rfl rfl 30 _ hT5.out.b (rt_i t2) (rt_z _ t2) (rt_one t2) ?_))
                exact bodyPost_ret (v := .tuple #[.agg t2.v.toArray, .int .i64 ((p : Int) + 6)]) (fin_zone _ _ (N + 1) t2 _ rfl rfl (hT5.out.put t2).b) rfl hfin.out
    | false =>
      go_wp2_with fail
      refine (KMc.out _ p4.out).mono ?_
      rintro e w5 ⟨rfl, q5⟩
      have p5 := Lib.hid q5
      clear q5
      cases bm with
      | false =>
        have hR := Lib.hid (HD.out.trans (if_neg (by simp)))
        have hTb := Lib.hid (hT1.out.go p5.out)
        have hfin := Lib.hid (HF.out _ _ hR.out (hTb.out.put t1).below)
        clear HF HD hR
        go_wp2_with (first | (refine wpList_load_row rfl 30 (.tmp 5) rfl N rfl 30 _ _ _ hTb.out.a Tryd.underlying30 rfl (rt_i t1) ?_) | (refine wpList_store_row rfl 30 (.tmp 6) (.tmp 50) rfl (N + 1) _ rfl rfl 30 _ hTb.out.b (rt_i t1) (rt_z _ t1) (rt_one t1) ?_))
        exact bodyPost_ret (v := .tuple #[.agg t1.v.toArray, .int .i64 (-1)]) (fin_zone _ _ (N + 1) t1 _ rfl rfl (hTb.out.put t1).b) rfl hfin.out
      | true =>
        by_cases hA : A < 0
        · skip
          have hR := Lib.hid (HD.out.trans (if_neg (by omega)))
          have hTb := Lib.hid (hT1.out.go p5.out)
          have hfin := Lib.hid (HF.out _ _ hR.out (hTb.out.put t1).below)
          clear HF HD hR
          go_wp2_with (first | (refine wpList_load_row rfl 30 (.tmp 5) rfl N rfl 30 _ _ _ hTb.out.a Tryd.underlying30 rfl (rt_i t1) ?_) | (refine wpList_store_row rfl 30 (.tmp 6) (.tmp 50) rfl (N + 1) _ rfl rfl 30 _ hTb.out.b (rt_i t1) (rt_z _ t1) (rt_one t1) ?_))
          exact bodyPost_ret (v := .tuple #[.agg t1.v.toArray, .int .i64 (-1)]) (fin_zone _ _ (N + 1) t1 _ rfl rfl (hTb.out.put t1).b) rfl hfin.out
        · by_cases hB : B < 0
          · skip
            have hR := Lib.hid (HD.out.trans (if_neg (by omega)))
            have hTb := Lib.hid (hT1.out.go p5.out)
            have hfin := Lib.hid (HF.out _ _ hR.out (hTb.out.put t1).below)
            clear HF HD hR
            go_wp2_with (first | (refine wpList_load_row rfl 30 (.tmp 5) rfl N rfl 30 _ _ _ hTb.out.a Tryd.underlying30 rfl (rt_i t1) ?_) | (refine wpList_store_row rfl 30 (.tmp 6) (.tmp 50) rfl (N + 1) _ rfl rfl 30 _ hTb.out.b (rt_i t1) (rt_z _ t1) (rt_one t1) ?_))
            exact bodyPost_ret (v := .tuple #[.agg t1.v.toArray, .int .i64 (-1)]) (fin_zone _ _ (N + 1) t1 _ rfl rfl (hTb.out.put t1).b) rfl hfin.out
          · go_wp2_with fail
            refine (KCc.out _ p5.out).mono ?_
            rintro e w6 ⟨rfl, q6⟩
            have p6 := Lib.hid q6
            clear q6 KCc KMc KPc H1c H2c
            cases bc with
            | false =>
              have hR := Lib.hid (HD.out.trans (if_neg (by simp)))
              have hTb := Lib.hid (hT1.out.go p6.out)
              have hfin := Lib.hid (HF.out _ _ hR.out (hTb.out.put t1).below)
              clear HF HD hR
              go_wp2_with (first | (refine wpList_load_row rfl 30 (.tmp 5) rfl N rfl 30 _ _ _ hTb.out.a Tryd.underlying30 rfl (rt_i t1) ?_) | (refine wpList_store_row rfl 30 (.tmp 6) (.tmp 50) rfl (N + 1) _ rfl rfl 30 _ hTb.out.b (rt_i t1) (rt_z _ t1) (rt_one t1) ?_))
              exact bodyPost_ret (v := .tuple #[.agg t1.v.toArray, .int .i64 (-1)]) (fin_zone _ _ (N + 1) t1 _ rfl rfl (hTb.out.put t1).b) rfl hfin.out
            | true =>
              replace HD := Lib.hid (HD.out.trans (if_pos (by refine ⟨?_, by omega, by omega, ?_⟩ <;> first | exact Or.inl rfl | exact Or.inr rfl | rfl | trivial | simp)))
              have hTb := Lib.hid (hT1.out.go p6.out)
              obtain ⟨hps, hpb⟩ := HB45.out (by first | rfl | trivial)
              have hpsI : (p : Int) < (s.size : Int) := by omega
              have c11 := hTb.out.a.cell 11 (.bool t1.late) rfl
              have f11 := hTb.out.a.free 11
              have c10 := hTb.out.a.cell 10 (.int .i64 t1.off) rfl
              have f10 := hTb.out.a.free 10
              by_cases hA3 : 23 < A
              · skip
                have hlt : decide (23 < A ∨ 59 < B) = true := by first | exact Bool.decide_or _ _ | (simp; omega)
                rw [hlt] at HD
                have hT5 : Hid (TB N w (((w6.setCell ⟨N, 11, none⟩ (.bool true)).setCell ⟨N, 10, none⟩ (.int .i64 (3600 * A + 60 * B))).setCell ⟨N, 10, none⟩ (.int .i64 (-(3600 * A + 60 * B)))) ({ t1 with late := true, off := (-(3600 * A + 60 * B)) } : RT) RT.zero) := ((hTb.out.set 11 (.bool true) { t1 with late := true } rfl).set 10 (.int .i64 (3600 * A + 60 * B)) { t1 with late := true, off := 3600 * A + 60 * B } rfl).set 10 (.int .i64 (-(3600 * A + 60 * B))) ({ t1 with late := true, off := (-(3600 * A + 60 * B)) } : RT) rfl
                obtain ⟨t2, ht2⟩ : ∃ t2 : RT, ({ t1 with late := true, off := (-(3600 * A + 60 * B)) } : RT) = t2 := ⟨_, rfl⟩
                have hR : Hid (R = (t2, (p : Int) + 6)) := HD.out.trans (by rw [← ht2]; first | rfl | (rw [if_neg (by simp)]) | (rw [if_pos rfl]) | simp)
                rw [ht2] at hT5
                have hfin := Lib.hid (HF.out _ _ hR.out (hT5.out.put t2).below)
                clear HF HD hR ht2 hlt
                go_upto_region 11 with fail
                generalize (((w6.setCell ⟨N, 11, none⟩ (.bool true)).setCell ⟨N, 10, none⟩ (.int .i64 (3600 * A + 60 * B))).setCell ⟨N, 10, none⟩ (.int .i64 (-(3600 * A + 60 * B)))) = wd at *
                clear c11 f11 c10 f10
                go_wp2_with (first | (refine wpList_load_row rfl 30 (.tmp 5) rfl N rfl 30 _ _ _ hT5.out.a Tryd.underlying30 rfl (rt_i t2) ?_) | (refine wpList_store_row rfl 30 (.tmp 6) (.tmp 72) rfl (N + 1) _ rfl rfl 30 _ hT5.out.b (rt_i t2) (rt_z _ t2) (rt_one t2) ?_))
                exact bodyPost_ret (v := .tuple #[.agg t2.v.toArray, .int .i64 ((p : Int) + 6)]) (fin_zone _ _ (N + 1) t2 _ rfl rfl (hT5.out.put t2).b) rfl hfin.out
              · by_cases hB3 : 59 < B
                · skip
                  have hlt : decide (23 < A ∨ 59 < B) = true := by first | exact Bool.decide_or _ _ | (simp; omega)
                  rw [hlt] at HD
                  have hT5 : Hid (TB N w (((w6.setCell ⟨N, 11, none⟩ (.bool true)).setCell ⟨N, 10, none⟩ (.int .i64 (3600 * A + 60 * B))).setCell ⟨N, 10, none⟩ (.int .i64 (-(3600 * A + 60 * B)))) ({ t1 with late := true, off := (-(3600 * A + 60 * B)) } : RT) RT.zero) := ((hTb.out.set 11 (.bool true) { t1 with late := true } rfl).set 10 (.int .i64 (3600 * A + 60 * B)) { t1 with late := true, off := 3600 * A + 60 * B } rfl).set 10 (.int .i64 (-(3600 * A + 60 * B))) ({ t1 with late := true, off := (-(3600 * A + 60 * B)) } : RT) rfl
                  obtain ⟨t2, ht2⟩ : ∃ t2 : RT, ({ t1 with late := true, off := (-(3600 * A + 60 * B)) } : RT) = t2 := ⟨_, rfl⟩
                  have hR : Hid (R = (t2, (p : Int) + 6)) := HD.out.trans (by rw [← ht2]; first | rfl | (rw [if_neg (by simp)]) | (rw [if_pos rfl]) | simp)
                  rw [ht2] at hT5
                  have hfin := Lib.hid (HF.out _ _ hR.out (hT5.out.put t2).below)
                  clear HF HD hR ht2 hlt
                  go_upto_region 11 with fail
                  generalize (((w6.setCell ⟨N, 11, none⟩ (.bool true)).setCell ⟨N, 10, none⟩ (.int .i64 (3600 * A + 60 * B))).setCell ⟨N, 10, none⟩ (.int .i64 (-(3600 * A + 60 * B)))) = wd at *
                  clear c11 f11 c10 f10
                  go_wp2_with (first | (refine wpList_load_row rfl 30 (.tmp 5) rfl N rfl 30 _ _ _ hT5.out.a Tryd.underlying30 rfl (rt_i t2) ?_) | (refine wpList_store_row rfl 30 (.tmp 6) (.tmp 72) rfl (N + 1) _ rfl rfl 30 _ hT5.out.b (rt_i t2) (rt_z _ t2) (rt_one t2) ?_))
                  exact bodyPost_ret (v := .tuple #[.agg t2.v.toArray, .int .i64 ((p : Int) + 6)]) (fin_zone _ _ (N + 1) t2 _ rfl rfl (hT5.out.put t2).b) rfl hfin.out
                · skip
                  have hlt : decide (23 < A ∨ 59 < B) = (decide (23 < A) || decide (59 < B)) := by first | exact Bool.decide_or _ _ | (simp; omega)
                  rw [hlt] at HD
                  have hT5 : Hid (TB N w (((w6.setCell ⟨N, 11, none⟩ (.bool (decide (23 < A) || decide (59 < B)))).setCell ⟨N, 10, none⟩ (.int .i64 (3600 * A + 60 * B))).setCell ⟨N, 10, none⟩ (.int .i64 (-(3600 * A + 60 * B)))) ({ t1 with late := (decide (23 < A) || decide (59 < B)), off := (-(3600 * A + 60 * B)) } : RT) RT.zero) := ((hTb.out.set 11 (.bool (decide (23 < A) || decide (59 < B))) { t1 with late := (decide (23 < A) || decide (59 < B)) } rfl).set 10 (.int .i64 (3600 * A + 60 * B)) { t1 with late := (decide (23 < A) || decide (59 < B)), off := 3600 * A + 60 * B } rfl).set 10 (.int .i64 (-(3600 * A + 60 * B))) ({ t1 with late := (decide (23 < A) || decide (59 < B)), off := (-(3600 * A + 60 * B)) } : RT) rfl
                  obtain ⟨t2, ht2⟩ : ∃ t2 : RT, ({ t1 with late := (decide (23 < A) || decide (59 < B)), off := (-(3600 * A + 60 * B)) } : RT) = t2 := ⟨_, rfl⟩
                  have hR : Hid (R = (t2, (p : Int) + 6)) := HD.out.trans (by rw [← ht2]; first | rfl | (rw [if_neg (by simp)]) | (rw [if_pos rfl]) | simp)
                  rw [ht2] at hT5
                  have hfin := Lib.hid (HF.out _ _ hR.out (hT5.out.put t2).below)
                  clear HF HD hR ht2 hlt
                  go_upto_region 11 with fail
                  generalize (((w6.setCell ⟨N, 11, none⟩ (.bool (decide (23 < A) || decide (59 < B)))).setCell ⟨N, 10, none⟩ (.int .i64 (3600 * A + 60 * B))).setCell ⟨N, 10, none⟩ (.int .i64 (-(3600 * A + 60 * B)))) = wd at *
                  clear c11 f11 c10 f10
                  go_wp2_with (first | (refine wpList_load_row rfl 30 (.tmp 5) rfl N rfl 30 _ _ _ hT5.out.a Tryd.underlying30 rfl (rt_i t2) ?_) | (refine wpList_store_row rfl 30 (.tmp 6) (.tmp 72) rfl (N + 1) _ rfl rfl 30 _ hT5.out.b (rt_i t2) (rt_z _ t2) (rt_one t2) ?_))
                  exact bodyPost_ret (v := .tuple #[.agg t2.v.toArray, .int .i64 ((p : Int) + 6)]) (fin_zone _ _ (N + 1) t2 _ rfl rfl (hT5.out.put t2).b) rfl hfin.out
end Go.Proofs.YtckeefjmamggmaaDoor
