/-
  Helper: the walk of the reference's clock.
-/
import Derived.Test.YtckeefjmamggmaaDoorInRd2a
import Derived.Deep.Cut
namespace Go.Proofs.YtckeefjmamggmaaDoor
open Go.RowKit
set_option linter.unusedVariables false
set_option linter.unusedSimpArgs false

set_option maxRecDepth 100000 in
set_option maxHeartbeats 8000000 in
theorem rclock_any (s : ByteArray) (p : Nat) (t : RT) (hs : s.size ≤ 1000000) (hp : p ≤ 1000000) (hna : t.na = 0) (w : World) : Calls Tryd.prog 24 #[.string s, .int .i64 p, .agg t.v.toArray] w (TupP (clockR s.data.toList p t) w) := by
  obtain ⟨wb, hwb⟩ : ∃ wb, (w.alloc (.cells t.v.toArray 30)).alloc (.cells RT.zero.v.toArray 30) = wb := ⟨_, rfl⟩
  have hT0 : Hid (TB w.heap.size w wb t RT.zero) := by rw [← hwb]; exact TB.start w t
  obtain ⟨N, hN⟩ : ∃ N, w.heap.size = N := ⟨_, rfl⟩
  have hN1 : (w.alloc (.cells t.v.toArray 30)).heap.size = N + 1 := by simp [hN]
  have H1 := Lib.hid (fun W (hW : Below wb.heap.size wb W) => two_at s p 2 (p : Int) rfl hs (by omega) (by omega) (by omega) wb W hW)
  have H2 := Lib.hid (fun W (hW : Below wb.heap.size wb W) => two_at s (p + 3) 2 ((p : Int) + 3) (by omega) hs (by omega) (by omega) (by omega) wb W hW)
  have H3 := Lib.hid (fun W (hW : Below wb.heap.size wb W) => two_at s (p + 6) 2 ((p : Int) + 6) (by omega) hs (by omega) (by omega) (by omega) wb W hW)
  have K1 := Lib.hid (fun (wc W : World) (hW : Below wc.heap.size wc W) => is_at s (p + 2) 58 ((p : Int) + 2) 58 (by omega) rfl hs (by omega) wc W hW)
  have K2 := Lib.hid (fun (wc W : World) (hW : Below wc.heap.size wc W) => is_at s (p + 5) 58 ((p : Int) + 5) 58 (by omega) rfl hs (by omega) wc W hW)
  have K3 := Lib.hid (fun (wc W : World) (hW : Below wc.heap.size wc W) => is_at s (p + 8) 46 ((p : Int) + 8) 46 (by omega) rfl hs (by omega) wc W hW)
  have HF : Hid (∀ x w', clockR s.data.toList p t = x → Below w.heap.size w w' → TupP (clockR s.data.toList p t) w (.returned (.tuple #[.agg x.1.v.toArray, .int .i64 x.2])) w') := fun x w' h1 h2 => by rw [h1]; exact ⟨rfl, h2⟩
  obtain ⟨dg, hdg⟩ : ∃ dg, digs s.data.toList (p + 9) = dg := ⟨_, rfl⟩
  have HD : Hid (clockR s.data.toList p t = if 0 ≤ twoF s.data.toList p 2 ∧ 0 ≤ twoF s.data.toList (p + 3) 2 ∧ 0 ≤ twoF s.data.toList (p + 6) 2 ∧ isF s.data.toList (p + 2) 58 = true ∧ isF s.data.toList (p + 5) 58 = true then
    if isF s.data.toList (p + 8) 46 = true then
      ({ t with h := twoF s.data.toList p 2, mi := twoF s.data.toList (p + 3) 2, s := twoF s.data.toList (p + 6) 2, tm := true, na := (frn dg : Nat) }, if dg.length < 1 ∨ 9 < dg.length then -1 else (p : Int) + 9 + (dg.length : Nat))
    else ({ t with h := twoF s.data.toList p 2, mi := twoF s.data.toList (p + 3) 2, s := twoF s.data.toList (p + 6) 2, tm := true }, (p : Int) + 8)
    else ({ t with h := twoF s.data.toList p 2, mi := twoF s.data.toList (p + 3) 2, s := twoF s.data.toList (p + 6) 2 }, -1)) := by show _ = _; rw [← hdg]; rfl
  have hls : s.data.toList.length = s.size := by simp
  have HG : Hid (isF s.data.toList (p + 8) 46 = true → p + 9 + dg.length ≤ s.size ∧ s.size ≤ 1000000) := fun h => by
    have h2 := of_decide_eq_true h
    have := digs_fits s.data.toList (p + 9) (by omega)
    rw [hdg] at this; exact ⟨by omega, hs⟩
  have HC : Hid (∀ k, k < dg.length → ∃ c : UInt8, s.data.toList.getD (p + 9 + k) 0 = c ∧ p + 9 + k < s.size ∧ isD c = true ∧ dg.take (k + 1) = dg.take k ++ [c]) := fun k hk => by
    rw [← hdg] at hk ⊢
    obtain ⟨c, h1, h2, h3, h4⟩ := digs_take s.data.toList (p + 9) k hk
    exact ⟨c, h1, by omega, h3, h4⟩
  have HS : Hid (p + 9 + dg.length < s.size → isD (s.data.toList.getD (p + 9 + dg.length) 0) = false) := fun h => by
    rw [← hdg] at h ⊢
    exact digs_stop _ _ (by omega)
  have HN := Lib.hid (fun k => frn_le (dg.take k) (fun c hc => digs_all s.data.toList (p + 9) c (by rw [hdg]; exact List.mem_of_mem_take hc)))
  have HX : Hid (∀ k (h : p + 9 + k < s.size), s.data.toList.getD (p + 9 + k) 0 = s[p + 9 + k]) := fun k h => ba_getD s (p + 9 + k) h
  clear hdg hls
  rw [hN] at HF hT0
  generalize TupP (clockR s.data.toList p t) w = Po at *
  generalize clockR s.data.toList p t = R at *
  generalize twoF s.data.toList p 2 = Y at *
  generalize twoF s.data.toList (p + 3) 2 = M at *
  generalize twoF s.data.toList (p + 6) 2 = D at *
  generalize isF s.data.toList (p + 2) 58 = b1 at *
  generalize isF s.data.toList (p + 5) 58 = b2 at *
  generalize isF s.data.toList (p + 8) 46 = b3 at *
  have hz := zeroT
  clear hs
  go_enter Tryd.func24, Tryd.ntmps24
  go_wp2_with fail
  clear hwb hN1
  refine (H1.out _ (Below.refl _ _)).mono ?_
  rintro e w1 ⟨rfl, q1⟩
  have p1 := Lib.hid q1
  clear q1
  go_wp2_with fail
  refine (H2.out _ p1.out).mono ?_
  rintro e w2 ⟨rfl, q2⟩
  have p2 := Lib.hid q2
  clear q2
  go_wp2_with fail
  refine (H3.out _ p2.out).mono ?_
  rintro e w3 ⟨rfl, q3⟩
  have hT3 : Hid (TB N w w3 t RT.zero) := hT0.out.go q3
  have c3 := hT3.out.a.cell 6 (.int .i64 t.h) rfl
  have c4 := hT3.out.a.cell 7 (.int .i64 t.mi) rfl
  have c5 := hT3.out.a.cell 8 (.int .i64 t.s) rfl
  have f3 := hT3.out.a.free 6
  have f4 := hT3.out.a.free 7
  have f5 := hT3.out.a.free 8
  have hT4 : Hid (TB N w (((w3.setCell ⟨N, 6, none⟩ (.int .i64 Y)).setCell ⟨N, 7, none⟩ (.int .i64 M)).setCell ⟨N, 8, none⟩ (.int .i64 D)) { t with h := Y, mi := M, s := D } RT.zero) :=
    ((hT3.out.set 6 (.int .i64 Y) { t with h := Y } rfl).set 7 (.int .i64 M) { t with h := Y, mi := M } rfl).set 8 (.int .i64 D) { t with h := Y, mi := M, s := D } rfl
  clear q3 H1 H2 H3 hT0 p1 p2 hT3 hz
  go_upto_region 2 with fail
  generalize ((w3.setCell ⟨N, 6, none⟩ (.int .i64 Y)).setCell ⟨N, 7, none⟩ (.int .i64 M)).setCell ⟨N, 8, none⟩ (.int .i64 D) = wc at *
  clear c3 c4 c5 f3 f4 f5
  obtain ⟨t1, ht1⟩ : ∃ t1 : RT, ({ t with h := Y, mi := M, s := D } : RT) = t1 := ⟨_, rfl⟩
  have ht2 : Hid (({ t with h := Y, mi := M, s := D, tm := true } : RT) = { t1 with tm := true }) := by show _ = _; rw [← ht1]
  have ht3 : Hid (({ t with h := Y, mi := M, s := D, tm := true, na := (frn dg : Nat) } : RT) = { t1 with tm := true, na := (frn dg : Nat) }) := by show _ = _; rw [← ht1]
  have en : t1.na = 0 := by rw [← ht1]; exact hna
  have ey : t1.h = Y := by rw [← ht1]
  have em : t1.mi = M := by rw [← ht1]
  have ed : t1.s = D := by rw [← ht1]
  rw [ht1] at hT4 HD
  rw [ht2.out, ht3.out] at HD
  have c3 := hT4.out.a.cell 6 (.int .i64 Y) (by rw [← ey]; rfl)
  have c4 := hT4.out.a.cell 7 (.int .i64 M) (by rw [← em]; rfl)
  have c5 := hT4.out.a.cell 8 (.int .i64 D) (by rw [← ed]; rfl)
  clear ht1 ht2 ht3 ey em ed
  by_cases hY : Y < 0
  · clear K1 K2 c4 c5
    have hR := Lib.hid (HD.out.trans (if_neg (by omega)))
    have hTb := Lib.hid (hT4.out)
    have hfin := Lib.hid (HF.out _ _ hR.out (hTb.out.put t1).below)
    clear HF HD hR HG HC HS HN HX K3
    go_wp2_with (first | (refine wpList_load_row rfl 30 (.tmp 5) rfl N rfl 30 _ _ _ hTb.out.a Tryd.underlying30 rfl (rt_i t1) ?_) | (refine wpList_store_row rfl 30 (.tmp 6) (.tmp 51) rfl (N + 1) _ rfl rfl 30 _ hTb.out.b (rt_i t1) (rt_z _ t1) (rt_one t1) ?_))
    exact bodyPost_ret (v := .tuple #[.agg t1.v.toArray, .int .i64 (-1)]) (fin_clock _ _ (N + 1) t1 _ rfl rfl (hTb.out.put t1).b) rfl hfin.out
  · by_cases hM : M < 0
    · clear K1 K2 c5
      have hR := Lib.hid (HD.out.trans (if_neg (by omega)))
      have hTb := Lib.hid (hT4.out)
      have hfin := Lib.hid (HF.out _ _ hR.out (hTb.out.put t1).below)
      clear HF HD hR HG HC HS HN HX K3
      go_wp2_with (first | (refine wpList_load_row rfl 30 (.tmp 5) rfl N rfl 30 _ _ _ hTb.out.a Tryd.underlying30 rfl (rt_i t1) ?_) | (refine wpList_store_row rfl 30 (.tmp 6) (.tmp 51) rfl (N + 1) _ rfl rfl 30 _ hTb.out.b (rt_i t1) (rt_z _ t1) (rt_one t1) ?_))
      exact bodyPost_ret (v := .tuple #[.agg t1.v.toArray, .int .i64 (-1)]) (fin_clock _ _ (N + 1) t1 _ rfl rfl (hTb.out.put t1).b) rfl hfin.out
    · by_cases hDn : D < 0
      · clear K1 K2
        have hR := Lib.hid (HD.out.trans (if_neg (by omega)))
        have hTb := Lib.hid (hT4.out)
        have hfin := Lib.hid (HF.out _ _ hR.out (hTb.out.put t1).below)
        clear HF HD hR HG HC HS HN HX K3
        go_wp2_with (first | (refine wpList_load_row rfl 30 (.tmp 5) rfl N rfl 30 _ _ _ hTb.out.a Tryd.underlying30 rfl (rt_i t1) ?_) | (refine wpList_store_row rfl 30 (.tmp 6) (.tmp 51) rfl (N + 1) _ rfl rfl 30 _ hTb.out.b (rt_i t1) (rt_z _ t1) (rt_one t1) ?_))
        exact bodyPost_ret (v := .tuple #[.agg t1.v.toArray, .int .i64 (-1)]) (fin_clock _ _ (N + 1) t1 _ rfl rfl (hTb.out.put t1).b) rfl hfin.out
      · have K1c := Lib.hid (K1.out wc)
        have K2c := Lib.hid (fun wd => K2.out wc wd)
        clear K1 K2
        go_wp2_with fail
        refine (K1c.out _ (Below.refl _ _)).mono ?_
        rintro e w5 ⟨rfl, q5⟩
        have p5 := Lib.hid q5
        clear q5
        cases b1 with
        | false =>
          have hR := Lib.hid (HD.out.trans (if_neg (by simp)))
          have hTb := Lib.hid (hT4.out.go p5.out)
          have hfin := Lib.hid (HF.out _ _ hR.out (hTb.out.put t1).below)
          clear HF HD hR HG HC HS HN HX K3
          go_wp2_with (first | (refine wpList_load_row rfl 30 (.tmp 5) rfl N rfl 30 _ _ _ hTb.out.a Tryd.underlying30 rfl (rt_i t1) ?_) | (refine wpList_store_row rfl 30 (.tmp 6) (.tmp 51) rfl (N + 1) _ rfl rfl 30 _ hTb.out.b (rt_i t1) (rt_z _ t1) (rt_one t1) ?_))
          exact bodyPost_ret (v := .tuple #[.agg t1.v.toArray, .int .i64 (-1)]) (fin_clock _ _ (N + 1) t1 _ rfl rfl (hTb.out.put t1).b) rfl hfin.out
        | true =>
          go_wp2_with fail
          refine (K2c.out _ p5.out).mono ?_
          rintro e w6 ⟨rfl, q6⟩
          have p6 := Lib.hid q6
          clear q6
          cases b2 with
          | false =>
            have hR := Lib.hid (HD.out.trans (if_neg (by simp)))
            have hTb := Lib.hid (hT4.out.go p6.out)
            have hfin := Lib.hid (HF.out _ _ hR.out (hTb.out.put t1).below)
            clear HF HD hR HG HC HS HN HX K3
            go_wp2_with (first | (refine wpList_load_row rfl 30 (.tmp 5) rfl N rfl 30 _ _ _ hTb.out.a Tryd.underlying30 rfl (rt_i t1) ?_) | (refine wpList_store_row rfl 30 (.tmp 6) (.tmp 51) rfl (N + 1) _ rfl rfl 30 _ hTb.out.b (rt_i t1) (rt_z _ t1) (rt_one t1) ?_))
            exact bodyPost_ret (v := .tuple #[.agg t1.v.toArray, .int .i64 (-1)]) (fin_clock _ _ (N + 1) t1 _ rfl rfl (hTb.out.put t1).b) rfl hfin.out
          | true =>
            replace HD := Lib.hid (HD.out.trans (if_pos (by refine ⟨by omega, by omega, by omega, ?_, ?_⟩ <;> first | rfl | trivial)))
            have hT6 := Lib.hid (hT4.out.go p6.out)
            have c1 := hT6.out.a.cell 1 (.bool t1.tm) rfl
            have f1 := hT6.out.a.free 1
            have hT7 := Lib.hid (hT6.out.set 1 (.bool true) { t1 with tm := true } rfl)
            clear c3 c4 c5
            obtain ⟨t2, ht2⟩ : ∃ t2 : RT, ({ t1 with tm := true } : RT) = t2 := ⟨_, rfl⟩
            have ht3 : Hid (({ t1 with tm := true, na := (frn dg : Nat) } : RT) = { t2 with na := (frn dg : Nat) }) := by show _ = _; rw [← ht2]
            have en2 : Hid ({ t2 with na := (frn ([] : List UInt8) : Nat) } = t2) := by show _ = _; rw [frn_nil, ← ht2]; exact congrArg (fun x => ({ t1 with tm := true, na := x } : RT)) en.symm
            rw [ht3.out, ht2] at HD
            rw [ht2] at hT7
            clear ht2 ht3 en
            have K3c := Lib.hid (K3.out)
            clear K3
            go_upto_region 5 with fail
            generalize w6.setCell ⟨N, 1, none⟩ (.bool true) = w7 at *
            clear c1 f1 hT6
            go_wp2_with fail
            refine (K3c.out w7 _ (Below.refl _ _)).mono ?_
            rintro e w8 ⟨rfl, q8⟩
            have p8 := Lib.hid q8
            clear q8 K3c
            have hT8 := Lib.hid (hT7.out.go p8.out)
            cases b3 with
            | false =>
              have hR := Lib.hid (HD.out.trans (if_neg (by simp)))
              have hfin := Lib.hid (HF.out _ _ hR.out (hT8.out.put t2).below)
              clear HF HD hR HG HC HS HN HX
              go_wp2_with (first | (refine wpList_load_row rfl 30 (.tmp 5) rfl N rfl 30 _ _ _ hT8.out.a Tryd.underlying30 rfl (rt_i t2) ?_) | (refine wpList_store_row rfl 30 (.tmp 6) (.tmp 59) rfl (N + 1) _ rfl rfl 30 _ hT8.out.b (rt_i t2) (rt_z _ t2) (rt_one t2) ?_))
              exact bodyPost_ret (v := .tuple #[.agg t2.v.toArray, .int .i64 ((p : Int) + 8)]) (fin_clock _ _ (N + 1) t2 _ rfl rfl (hT8.out.put t2).b) rfl hfin.out
            | true =>
              obtain ⟨hG, hG2⟩ := HG.out rfl
              replace HD := Lib.hid (HD.out.trans (if_pos (by first | rfl | trivial)))
              have hT9 : Hid (TB N w w8 { t2 with na := (frn (dg.take 0) : Nat) } RT.zero) := by rw [List.take_zero, en2.out]; exact hT8.out
              clear HG hT7 hT8 p8 p6 p5 en2 K1c K2c hT4
              go_wp2
              go_loopw [8, 9] (fun nv uv wr => ∃ k : Nat, k ≤ dg.length ∧ nv = .int .i64 k ∧ uv = .int .i64 (un k : Nat) ∧ Hid (TB N w wr { t2 with na := (frn (dg.take k) : Nat) } RT.zero)) (fun nv _ _ => dg.length - (intOf nv).toNat)
              case atStart => exact ⟨0, Nat.zero_le _, rfl, rfl, hT9⟩
              case round =>
                obtain ⟨k, hk, rfl, rfl, hT⟩ := hrel
                by_cases hlt : k < dg.length
                · obtain ⟨c, hc1, hc2, hc3, hc4⟩ := HC.out k hlt
                  rw [HX.out k hc2] at hc1
                  obtain ⟨g1, g2⟩ := (isD_iff _).1 hc3
                  have hI : (p : Int) + 8 + 1 + (k : Int) < (s.size : Int) := by omega
                  have hI0 : (0 : Int) ≤ (p : Int) + 8 + 1 + (k : Int) := by omega
                  have hby : s[((p : Int) + 8 + 1 + (k : Int)).toNat]'(by omega) = c := by
                    rw [← hc1]; congr 1 <;> omega
                  have hks : k ≤ 1000000 := by omega
                  have hC1 : (48 : Int) ≤ (c.toNat : Int) := by omega
                  have hC2 : (c.toNat : Int) ≤ 57 := by omega
                  have hn9 := HN.out k
                  have hul := un_le k
                  clear HC HS HX HF HD hT9
                  go_upto_region 11 with fail
                  have c9 := hT.out.a.cell 9 (.int .i64 (frn (dg.take k) : Nat)) rfl
                  have f9 := hT.out.a.free 9
                  have c9d : wr.drew.cell? ⟨N, 9, none⟩ = some (.int .i64 (frn (dg.take k) : Nat)) := c9
                  have f9d : wr.drew.frozen? ⟨N, 9, none⟩ = false := f9
                  have hmul : (un k : Int) * ((c.toNat : Int) - 48) ≤ 900000000 := by
                    have h1 : un k * (c.toNat - 48) ≤ 100000000 * 9 := Nat.mul_le_mul hul (by omega)
                    have h2 : ((un k * (c.toNat - 48) : Nat) : Int) = (un k : Int) * ((c.toNat : Int) - 48) := by push_cast [g1]; rfl
                    omega
                  have hmul0 : 0 ≤ (un k : Int) * ((c.toNat : Int) - 48) := Int.mul_nonneg (by omega) (by omega)
                  have hkl : (dg.take k).length = k := by rw [List.length_take]; omega
                  have hst : Hid ((frn (dg.take k) : Int) + (un k : Int) * ((c.toNat : Int) - 48) = (frn (dg.take (k + 1)) : Nat)) := by
                    show _ = _
                    have h3 := frn_step (dg.take k) c
                    rw [hkl, ← hc4] at h3
                    rw [← h3]; push_cast [g1]; rfl
                  have hT1 : Hid (TB N w (wr.setCell ⟨N, 9, none⟩ (.int .i64 ((frn (dg.take k) : Int) + (un k : Int) * ((c.toNat : Int) - 48)))).drew { t2 with na := (frn (dg.take (k + 1)) : Nat) } RT.zero) := by
                    rw [hst.out]
                    have h4 := hT.out.set 9 (.int .i64 (frn (dg.take (k + 1)) : Nat)) { t2 with na := (frn (dg.take (k + 1)) : Nat) } rfl
                    exact ⟨h4.a, h4.b, h4.below.drew⟩
                  have hd1 : ((un k : Nat) : Int).tdiv 10 = ((un (k + 1) : Nat) : Int) := by rw [Int.tdiv_eq_ediv_of_nonneg (by omega), ← un_step]; omega
                  have hd2 : ((un k : Nat) : Int) / 10 = ((un (k + 1) : Nat) : Int) := by rw [← un_step]; omega
                  clear hst hT
                  go_region
                  clear c9 f9 c9d f9d hmul hmul0 hby hI hI0 hc1 hc4
                  go_wp2
                  go_roundw
                  case rel => exact ⟨k + 1, by omega, by go_num, by first | rfl | rw [hd1] | rw [hd2], hT1⟩
                  case measure => simp [intOf]; omega
                · obtain rfl : k = dg.length := by omega
                  have hall : dg.take dg.length = dg := List.take_of_length_le (Nat.le_refl _)
                  rw [hall] at hT
                  have hks : dg.length ≤ 1000000 := by omega
                  obtain ⟨t3, ht3⟩ : ∃ t3 : RT, ({ t2 with na := (frn dg : Nat) } : RT) = t3 := ⟨_, rfl⟩
                  rw [ht3] at hT HD
                  have hfin := Lib.hid (HF.out _ _ HD.out (hT.out.put t3).below)
                  have hout : ¬ ((p : Int) + 8 + 1 + (dg.length : Int) < (s.size : Int)) ∨ ∃ (h : p + 9 + dg.length < s.size), ¬ (48 ≤ (s[p + 9 + dg.length]).toNat ∧ (s[p + 9 + dg.length]).toNat ≤ 57) := by
                    by_cases h : p + 9 + dg.length < s.size
                    · right
                      refine ⟨h, fun g => ?_⟩
                      have h1 := HS.out h
                      rw [HX.out _ h] at h1
                      rw [(isD_iff _).2 g] at h1; cases h1
                    · left; omega
                  clear HC HS HX HF HD hT9 ht3 hall HN
                  generalize dg.length = kk at *
                  have hI0 : (0 : Int) ≤ (p : Int) + 8 + 1 + (kk : Int) := by omega
                  rcases hout with hI | ⟨h, hc⟩
                  · clear hI0
                    by_cases hk1 : (kk : Int) < 1
                    · have hk0 : kk < 1 := by omega
                      have hfin2 : Hid (Po (.returned (.tuple #[.agg t3.v.toArray, .int .i64 (-1)])) (wr.setRow (N + 1) t3.v.toArray)) := by
                        have h := hfin.out
                        rw [if_pos (by omega)] at h; exact h
                      clear hfin
                      go_wp2_with (first | (refine wpList_load_row rfl 30 (.tmp 5) rfl N rfl 30 _ _ _ hT.out.a Tryd.underlying30 rfl (rt_i t3) ?_) | (refine wpList_store_row rfl 30 (.tmp 6) (.tmp 110) rfl (N + 1) _ rfl rfl 30 _ hT.out.b (rt_i t3) (rt_z _ t3) (rt_one t3) ?_))
                      exact bodyPost_ret (v := .tuple #[.agg t3.v.toArray, .int .i64 (-1)]) (fin_clock _ _ (N + 1) t3 _ rfl rfl (hT.out.put t3).b) rfl hfin2.out
                    · by_cases hk9 : (9 : Int) < (kk : Int)
                      · have hk0 : 9 < kk := by omega
                        have hfin2 : Hid (Po (.returned (.tuple #[.agg t3.v.toArray, .int .i64 (-1)])) (wr.setRow (N + 1) t3.v.toArray)) := by
                          have h := hfin.out
                          rw [if_pos (by omega)] at h; exact h
                        clear hfin
                        go_wp2_with (first | (refine wpList_load_row rfl 30 (.tmp 5) rfl N rfl 30 _ _ _ hT.out.a Tryd.underlying30 rfl (rt_i t3) ?_) | (refine wpList_store_row rfl 30 (.tmp 6) (.tmp 110) rfl (N + 1) _ rfl rfl 30 _ hT.out.b (rt_i t3) (rt_z _ t3) (rt_one t3) ?_))
                        exact bodyPost_ret (v := .tuple #[.agg t3.v.toArray, .int .i64 (-1)]) (fin_clock _ _ (N + 1) t3 _ rfl rfl (hT.out.put t3).b) rfl hfin2.out
                      · have hk0 : ¬ (kk < 1 ∨ 9 < kk) := by omega
                        have hfin2 : Hid (Po (.returned (.tuple #[.agg t3.v.toArray, .int .i64 ((p : Int) + 8 + 1 + (kk : Int))])) (wr.setRow (N + 1) t3.v.toArray)) := by
                          have h := hfin.out
                          rw [if_neg (by omega), show (p : Int) + 9 + (kk : Int) = (p : Int) + 8 + 1 + (kk : Int) by omega] at h; exact h
                        clear hfin
                        go_wp2_with (first | (refine wpList_load_row rfl 30 (.tmp 5) rfl N rfl 30 _ _ _ hT.out.a Tryd.underlying30 rfl (rt_i t3) ?_) | (refine wpList_store_row rfl 30 (.tmp 6) (.tmp 111) rfl (N + 1) _ rfl rfl 30 _ hT.out.b (rt_i t3) (rt_z _ t3) (rt_one t3) ?_))
                        exact bodyPost_ret (v := .tuple #[.agg t3.v.toArray, .int .i64 ((p : Int) + 8 + 1 + (kk : Int))]) (fin_clock _ _ (N + 1) t3 _ rfl rfl (hT.out.put t3).b) rfl hfin2.out
                  · have hI : (p : Int) + 8 + 1 + (kk : Int) < (s.size : Int) := by omega
                    obtain ⟨c, hc1⟩ : ∃ c, s[p + 9 + kk] = c := ⟨_, rfl⟩
                    have hby : s[((p : Int) + 8 + 1 + (kk : Int)).toNat]'(by omega) = c := by
                      rw [← hc1]; congr 1 <;> omega
                    rw [hc1] at hc
                    by_cases hc3 : (48 : Int) ≤ (c.toNat : Int)
                    · have hc4 : ¬ (c.toNat : Int) ≤ 57 := by omega
                      clear hc hc1
                      by_cases hk1 : (kk : Int) < 1
                      · have hk0 : kk < 1 := by omega
                        have hfin2 : Hid (Po (.returned (.tuple #[.agg t3.v.toArray, .int .i64 (-1)])) (wr.setRow (N + 1) t3.v.toArray)) := by
                          have h := hfin.out
                          rw [if_pos (by omega)] at h; exact h
                        clear hfin
                        go_wp2_with (first | (refine wpList_load_row rfl 30 (.tmp 5) rfl N rfl 30 _ _ _ hT.out.a Tryd.underlying30 rfl (rt_i t3) ?_) | (refine wpList_store_row rfl 30 (.tmp 6) (.tmp 110) rfl (N + 1) _ rfl rfl 30 _ hT.out.b (rt_i t3) (rt_z _ t3) (rt_one t3) ?_))
                        exact bodyPost_ret (v := .tuple #[.agg t3.v.toArray, .int .i64 (-1)]) (fin_clock _ _ (N + 1) t3 _ rfl rfl (hT.out.put t3).b) rfl hfin2.out
                      · by_cases hk9 : (9 : Int) < (kk : Int)
                        · have hk0 : 9 < kk := by omega
                          have hfin2 : Hid (Po (.returned (.tuple #[.agg t3.v.toArray, .int .i64 (-1)])) (wr.setRow (N + 1) t3.v.toArray)) := by
                            have h := hfin.out
                            rw [if_pos (by omega)] at h; exact h
                          clear hfin
                          go_wp2_with (first | (refine wpList_load_row rfl 30 (.tmp 5) rfl N rfl 30 _ _ _ hT.out.a Tryd.underlying30 rfl (rt_i t3) ?_) | (refine wpList_store_row rfl 30 (.tmp 6) (.tmp 110) rfl (N + 1) _ rfl rfl 30 _ hT.out.b (rt_i t3) (rt_z _ t3) (rt_one t3) ?_))
                          exact bodyPost_ret (v := .tuple #[.agg t3.v.toArray, .int .i64 (-1)]) (fin_clock _ _ (N + 1) t3 _ rfl rfl (hT.out.put t3).b) rfl hfin2.out
                        · have hk0 : ¬ (kk < 1 ∨ 9 < kk) := by omega
                          have hfin2 : Hid (Po (.returned (.tuple #[.agg t3.v.toArray, .int .i64 ((p : Int) + 8 + 1 + (kk : Int))])) (wr.setRow (N + 1) t3.v.toArray)) := by
                            have h := hfin.out
                            rw [if_neg (by omega), show (p : Int) + 9 + (kk : Int) = (p : Int) + 8 + 1 + (kk : Int) by omega] at h; exact h
                          clear hfin
                          go_wp2_with (first | (refine wpList_load_row rfl 30 (.tmp 5) rfl N rfl 30 _ _ _ hT.out.a Tryd.underlying30 rfl (rt_i t3) ?_) | (refine wpList_store_row rfl 30 (.tmp 6) (.tmp 111) rfl (N + 1) _ rfl rfl 30 _ hT.out.b (rt_i t3) (rt_z _ t3) (rt_one t3) ?_))
                          exact bodyPost_ret (v := .tuple #[.agg t3.v.toArray, .int .i64 ((p : Int) + 8 + 1 + (kk : Int))]) (fin_clock _ _ (N + 1) t3 _ rfl rfl (hT.out.put t3).b) rfl hfin2.out
                    · clear hc hc1
                      by_cases hk1 : (kk : Int) < 1
                      · have hk0 : kk < 1 := by omega
                        have hfin2 : Hid (Po (.returned (.tuple #[.agg t3.v.toArray, .int .i64 (-1)])) (wr.setRow (N + 1) t3.v.toArray)) := by
                          have h := hfin.out
                          rw [if_pos (by omega)] at h; exact h
                        clear hfin
                        go_wp2_with (first | (refine wpList_load_row rfl 30 (.tmp 5) rfl N rfl 30 _ _ _ hT.out.a Tryd.underlying30 rfl (rt_i t3) ?_) | (refine wpList_store_row rfl 30 (.tmp 6) (.tmp 110) rfl (N + 1) _ rfl rfl 30 _ hT.out.b (rt_i t3) (rt_z _ t3) (rt_one t3) ?_))
                        exact bodyPost_ret (v := .tuple #[.agg t3.v.toArray, .int .i64 (-1)]) (fin_clock _ _ (N + 1) t3 _ rfl rfl (hT.out.put t3).b) rfl hfin2.out
                      · by_cases hk9 : (9 : Int) < (kk : Int)
                        · have hk0 : 9 < kk := by omega
                          have hfin2 : Hid (Po (.returned (.tuple #[.agg t3.v.toArray, .int .i64 (-1)])) (wr.setRow (N + 1) t3.v.toArray)) := by
                            have h := hfin.out
                            rw [if_pos (by omega)] at h; exact h
                          clear hfin
                          go_wp2_with (first | (refine wpList_load_row rfl 30 (.tmp 5) rfl N rfl 30 _ _ _ hT.out.a Tryd.underlying30 rfl (rt_i t3) ?_) | (refine wpList_store_row rfl 30 (.tmp 6) (.tmp 110) rfl (N + 1) _ rfl rfl 30 _ hT.out.b (rt_i t3) (rt_z _ t3) (rt_one t3) ?_))
                          exact bodyPost_ret (v := .tuple #[.agg t3.v.toArray, .int .i64 (-1)]) (fin_clock _ _ (N + 1) t3 _ rfl rfl (hT.out.put t3).b) rfl hfin2.out
                        · have hk0 : ¬ (kk < 1 ∨ 9 < kk) := by omega
                          have hfin2 : Hid (Po (.returned (.tuple #[.agg t3.v.toArray, .int .i64 ((p : Int) + 8 + 1 + (kk : Int))])) (wr.setRow (N + 1) t3.v.toArray)) := by
                            have h := hfin.out
                            rw [if_neg (by omega), show (p : Int) + 9 + (kk : Int) = (p : Int) + 8 + 1 + (kk : Int) by omega] at h; exact h
                          clear hfin
                          go_wp2_with (first | (refine wpList_load_row rfl 30 (.tmp 5) rfl N rfl 30 _ _ _ hT.out.a Tryd.underlying30 rfl (rt_i t3) ?_) | (refine wpList_store_row rfl 30 (.tmp 6) (.tmp 111) rfl (N + 1) _ rfl rfl 30 _ hT.out.b (rt_i t3) (rt_z _ t3) (rt_one t3) ?_))
                          exact bodyPost_ret (v := .tuple #[.agg t3.v.toArray, .int .i64 ((p : Int) + 8 + 1 + (kk : Int))]) (fin_clock _ _ (N + 1) t3 _ rfl rfl (hT.out.put t3).b) rfl hfin2.out
end Go.Proofs.YtckeefjmamggmaaDoor
