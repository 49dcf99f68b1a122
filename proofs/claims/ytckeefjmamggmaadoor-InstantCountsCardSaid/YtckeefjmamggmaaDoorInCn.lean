/-
  Helper: the walk of the reference's Canon.
-/
import Derived.Test.YtckeefjmamggmaaDoorInRI
namespace Go.Proofs.YtckeefjmamggmaaDoor
open Go.RowKit
set_option linter.unusedVariables false
set_option linter.unusedSimpArgs false

theorem fin_can (tmps : Array Value) (W : World) (N : Nat) (t : RT) (b : Value) (hp : tmps.getD 2 undef = .pointer (some ⟨N, 0, none⟩)) (hb : tmps.getD 3 undef = b) (h : Blk W N 30 t.v) :
    (results Tryd.f14 tmps).run Tryd.prog W = .ok (.tuple #[.agg t.v.toArray, b]) W := by
  rw [results_row_tmp (p := 2) (t := 3) (ty := 30) rfl tmps W N t.v.toArray hp (load_T h), hb]
def CanP (s : ByteArray) (w : World) (e : Ending) (w' : World) : Prop := Below w.heap.size w w' ∧ ((InsR (momF (rd s.data.toList)) s 0 ∧ e = .returned (.tuple #[.agg (readR s.data.toList).1.v.toArray, .bool true])) ∨ (¬ InsR (momF (rd s.data.toList)) s 0 ∧ e = .returned (.tuple #[.agg RT.zero.v.toArray, .bool false])))
set_option maxRecDepth 100000 in
set_option maxHeartbeats 8000000 in
theorem rcan_any (s : ByteArray) (hs : s.size ≤ 100000) (w : World) : Calls Tryd.prog 14 #[.string s] w (CanP s w) := by
  have HI := Lib.hid (fun W => rri_any s hs W)
  have HRd := Lib.hid (fun W => rread_any s hs W)
  have HY : Hid (∀ w', InsR (momF (rd s.data.toList)) s 0 → Below w.heap.size w w' → CanP s w (.returned (.tuple #[.agg (readR s.data.toList).1.v.toArray, .bool true])) w') := fun w' h h2 => ⟨h2, .inl ⟨h, rfl⟩⟩
  have HN : Hid (∀ w', ¬ InsR (momF (rd s.data.toList)) s 0 → Below w.heap.size w w' → CanP s w (.returned (.tuple #[.agg RT.zero.v.toArray, .bool false])) w') := fun w' h h2 => ⟨h2, .inr ⟨h, rfl⟩⟩
  have HD : Hid (∀ t en t' en', InsR (momF (rd s.data.toList)) t en → InsR (momF (rd s.data.toList)) t' en' → t = t' ∧ en = en') := fun t en t' en' h h' => h.det h'
  unfold InsP at HI
  generalize CanP s w = Po at *
  generalize InsR (momF (rd s.data.toList)) = IR at *
  generalize hr : readR s.data.toList = R at *
  obtain ⟨T, ok⟩ := R
  replace HRd : Hid (∀ W, Calls Tryd.prog 11 #[.string s] W fun e w' => e = .returned (.tuple #[.agg T.v.toArray, .bool ok]) ∧ Below W.heap.size W w') := HRd
  clear hr hs
  have hzT := zeroT
  go_enter Tryd.func14, Tryd.ntmps14
  obtain ⟨N, W0, hN, hW0, b0, b1, hbl⟩ := tbox w RT.zero
  have B0 := Lib.hid b0
  have hb0 : Hid (Below w.heap.size w W0) := by rw [← hW0]; exact (Below.refl _ w).alloc (Nat.le_refl _) _
  have hNw : N ≤ w.heap.size := Nat.le_of_eq hN.symm
  clear b0 b1 hbl
  go_wp2_with fail
  refine (HI.out _).mono ?_
  rintro e w1 ⟨t, en, hR, rfl, q1⟩
  have B1 := Lib.hid (B0.out.go q1 B0.out.lt)
  have hb1 := bt hb0 q1
  clear q1 HI B0 hb0 hW0
  have no : Hid (t ≠ s ∨ en ≠ 0 → ∀ w', Below w.heap.size w w' → Po (.returned (.tuple #[.agg RT.zero.v.toArray, .bool false])) w') := fun h w' hb => HN.out w' (fun g => by
    obtain ⟨e1, e2⟩ := HD.out _ _ _ _ hR g
    exact h.elim (fun x => x e1) (fun x => x e2)) hb
  have hfr : Hid (∀ (t : RT) w', Blk w' N 30 t.v → Below w.heap.size w w' → Below w.heap.size w (w'.setRow N RT.zero.v.toArray) ∧ Blk (w'.setRow N RT.zero.v.toArray) N 30 RT.zero.v) := fun t w' h1 h2 => ⟨below_row h2 (Nat.le_of_eq hN) _, rowB h1 _⟩
  by_cases hen : en = 0
  · subst hen
    by_cases hts : t = s
    · subst hts
      have hy := Lib.hid (fun w' => HY.out w' hR)
      clear HY HN HD no hR hfr
      go_wp2_with fail
      refine (HRd.out _).mono ?_
      rintro e w2 ⟨rfl, q2⟩
      have B2 := Lib.hid (B1.out.go q2 B1.out.lt)
      have hb2 := bt hb1 q2
      clear q2 HRd B1 hb1
      obtain ⟨M, W2, hM, hW2, c0, c1, hbl⟩ := tbox w2 T
      have C0 := Lib.hid c0
      have C1 := Lib.hid c1
      have hNM : N < M := by rw [← hM]; exact B2.out.lt
      have hb3 := Lib.hid (hbl _ _ hb2.out (by have := hb2.out.size; omega))
      have B3 : Hid (Blk (W2.setRow M T.v.toArray) N 30 RT.zero.v) := by
        have := B2.out.go (hbl _ _ (Below.refl w2.heap.size w2) (by omega)) B2.out.lt
        exact this
      have hfin := Lib.hid (hy.out _ (below_row hb3.out (Nat.le_of_eq hN) T.v.toArray))
      have B4 := Lib.hid (rowB B3.out T.v)
      clear c0 c1 hbl hy hb2 B2 hb3
      go_upto_region 5 with (refine wpList_store_row rfl 30 (.tmp 6) (.tmp 24) rfl M _ rfl rfl 30 _ C0.out (rt_i T) (rt_z _ T) (rt_one T) ?_)
      go_wp2_with (first | (refine wpList_load_row rfl 30 (.tmp 6) rfl M rfl 30 _ _ _ C1.out Tryd.underlying30 rfl (rt_i T) ?_) | (refine wpList_store_row rfl 30 (.tmp 2) (.tmp 26) rfl N _ rfl rfl 30 _ B3.out (rt_i T) (rt_z _ T) (rt_one T) ?_))
      exact bodyPost_ret (v := .tuple #[.agg T.v.toArray, .bool true]) (fin_can _ _ N T _ rfl rfl B4.out) rfl hfin.out
    · have hts2 := str_ne hts
      have hfin := Lib.hid (no.out (.inl hts) _ (hfr.out _ _ B1.out hb1.out).1)
      have B2 := Lib.hid (hfr.out _ _ B1.out hb1.out).2
      clear HY HN HD no hR hfr hts hb1
      go_wp2_with (refine wpList_store_row rfl 30 (.tmp 2) (.tmp 20) rfl N _ rfl rfl 30 _ B1.out (rt_i RT.zero) (rt_z _ RT.zero) (rt_one RT.zero) ?_)
      exact bodyPost_ret (v := .tuple #[.agg RT.zero.v.toArray, .bool false]) (fin_can _ _ N RT.zero _ rfl rfl B2.out) rfl hfin.out
  · have hfin := Lib.hid (no.out (.inr hen) _ (hfr.out _ _ B1.out hb1.out).1)
    have B2 := Lib.hid (hfr.out _ _ B1.out hb1.out).2
    clear HY HN HD no hR hfr hb1
    go_wp2_with (refine wpList_store_row rfl 30 (.tmp 2) (.tmp 20) rfl N _ rfl rfl 30 _ B1.out (rt_i RT.zero) (rt_z _ RT.zero) (rt_one RT.zero) ?_)
    exact bodyPost_ret (v := .tuple #[.agg RT.zero.v.toArray, .bool false]) (fin_can _ _ N RT.zero _ rfl rfl B2.out) rfl hfin.out
end Go.Proofs.YtckeefjmamggmaaDoor
