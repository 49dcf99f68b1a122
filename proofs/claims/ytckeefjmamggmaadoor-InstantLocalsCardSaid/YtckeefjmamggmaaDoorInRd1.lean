/-
  Helper: the reference's date.
-/
import Derived.Test.YtckeefjmamggmaaDoorInRef3
import Derived.Deep.Cut
namespace Go.Proofs.YtckeefjmamggmaaDoor
open Go.RowKit
set_option linter.unusedVariables false
set_option linter.unusedSimpArgs false

/-- the reference's T -/
structure RT where
  dt : Bool
  tm : Bool
  zn : Bool
  y : Int
  mo : Int
  d : Int
  h : Int
  mi : Int
  s : Int
  na : Int
  off : Int
  late : Bool
def RT.v (t : RT) : List Value := [.bool t.dt, .bool t.tm, .bool t.zn, .int .i64 t.y, .int .i64 t.mo, .int .i64 t.d, .int .i64 t.h, .int .i64 t.mi, .int .i64 t.s, .int .i64 t.na, .int .i64 t.off, .bool t.late]
def RT.zero : RT := ⟨false, false, false, 0, 0, 0, 0, 0, 0, 0, 0, false⟩
theorem size_T : (Tryd.prog.info? 30).map (·.size) = some 12 := by kernel_rfl
theorem rt_i (t : RT) : (Tryd.prog.info? 30).map (·.size) = some t.v.toArray.size := by rw [size_T]; rfl
theorem rt_z (t u : RT) : t.v.toArray.size = u.v.toArray.size := rfl
theorem rt_one (t : RT) : t.v.toArray.all (·.oneCell') = true := by
  rw [Array.all_eq_true_iff_forall_mem]
  intro v hv
  have hv : v ∈ t.v := by simpa using hv
  simp only [RT.v, List.mem_cons, List.not_mem_nil, or_false] at hv
  rcases hv with rfl | rfl | rfl | rfl | rfl | rfl | rfl | rfl | rfl | rfl | rfl | rfl <;> rfl
theorem zeroT (W : World) : (zeroValue 30).run Tryd.prog W = .ok (.agg RT.zero.v.toArray) W := by kernel_rfl
theorem rowB {w : World} {g t : Nat} {cs : List Value} (h : Blk w g t cs) (ds : List Value) : Blk (w.setRow g ds.toArray) g t ds := setRow_heap _ _ _ _ _ _ h
theorem rowFarB {w : World} {g m t : Nat} {cs : List Value} (h : Blk w g t cs) (hn : g ≠ m) (ds : Array Value) : Blk (w.setRow m ds) g t cs := (setRow_other w m g ds (by omega)).trans h
theorem load_T {w : World} {g : Nat} {t : RT} (h : Blk w g 30 t.v) : (loadVar 30 ⟨g, 0, none⟩).run Tryd.prog w = .ok (.agg t.v.toArray) w :=
  run_loadVar_row w g 30 30 t.v.toArray (0, 0) _ h Tryd.underlying30 rfl (rt_i t)
/-- is, as a test on the text -/
def isF (l : List UInt8) (p : Nat) (c : UInt8) : Bool := decide (p < l.length ∧ l.getD p 0 = c)
/-- the reference's calls leave the world but for draws -/
theorem two_at (s : ByteArray) (p n : Nat) (P : Int) (hP : P = (p : Int)) (hs : s.size ≤ 1000000) (hp : p ≤ 2000000) (hn0 : 0 < n) (hn : n ≤ 9) (w0 w : World) (hb : Below w0.heap.size w0 w) : Calls Tryd.prog 36 #[.string s, .int .i64 P, .int .i64 n] w fun e w' => e = .returned (.int .i64 (twoF s.data.toList p n)) ∧ Below w0.heap.size w0 w' := by
  subst hP
  exact (rtwo_any s p n hs hp hn0 hn w).mono fun e w' ⟨h1, q, h2⟩ => ⟨h1, by rw [h2]; exact Below.drewN hb q⟩
theorem is_at (s : ByteArray) (p : Nat) (c : UInt8) (P C : Int) (hP : P = (p : Int)) (hC : C = (c.toNat : Int)) (hs : s.size ≤ 1000000) (hp : p ≤ 2000000) (w0 w : World) (hb : Below w0.heap.size w0 w) : Calls Tryd.prog 25 #[.string s, .int .i64 P, .int .u8 C] w fun e w' => e = .returned (.bool (isF s.data.toList p c)) ∧ Below w0.heap.size w0 w' := by
  subst hP hC
  have e : isF s.data.toList p c = decide (p < s.size ∧ s.data.toList.getD p 0 = c) := by unfold isF; rw [show s.data.toList.length = s.size by simp]
  rw [e]
  exact (ris_any s p c hs hp w).mono fun e w' ⟨h1, q, h2⟩ => ⟨h1, by rw [h2]; exact Below.drewN hb q⟩
/-- the two boxes of T: the parameter's and the result's -/
structure TB (N : Nat) (w W : World) (t u : RT) : Prop where
  a : Blk W N 30 t.v
  b : Blk W (N + 1) 30 u.v
  below : Below N w W
theorem TB.go {N : Nat} {w W W' : World} {t u : RT} (h : TB N w W t u) (hb : Below W.heap.size W W') : TB N w W' t u :=
  ⟨h.a.go hb h.a.lt, h.b.go hb h.b.lt, h.below.trans (hb.mono (Nat.le_of_lt h.a.lt))⟩
theorem TB.start (w : World) (t : RT) : TB w.heap.size w ((w.alloc (.cells t.v.toArray 30)).alloc (.cells RT.zero.v.toArray 30)) t RT.zero := by
  have b1 := Blk.new w 30 t.v
  have b2 := Blk.new (w.alloc (.cells t.v.toArray 30)) 30 RT.zero.v
  have e : (w.alloc (.cells t.v.toArray 30)).heap.size = w.heap.size + 1 := by simp
  rw [e] at b2
  have hb1 : Below w.heap.size w (w.alloc (.cells t.v.toArray 30)) := (Below.refl _ w).alloc (Nat.le_refl _) _
  exact ⟨b1.go ((Below.refl (w.heap.size + 1) _).alloc (by omega) _) (Nat.lt_succ_self _), b2, hb1.alloc (by omega) _⟩
theorem TB.set {N : Nat} {w W : World} {t u : RT} (h : TB N w W t u) (i : Nat) (v : Value) (t' : RT) (ht : t.v.set i v = t'.v) : TB N w (W.setCell ⟨N, i, none⟩ v) t' u :=
  ⟨by rw [← ht]; exact h.a.set i v, h.b.far (by omega) i v, h.below.setCell (by show N ≤ N; omega) _⟩
theorem TB.put {N : Nat} {w W : World} {t u : RT} (h : TB N w W t u) (r : RT) : TB N w (W.setRow (N + 1) r.v.toArray) t r :=
  ⟨rowFarB h.a (by omega) _, rowB h.b _, below_row h.below (by omega) _⟩
def dateR (l : List UInt8) (p : Nat) (t : RT) : RT × Int :=
  if 0 ≤ twoF l p 4 ∧ 0 ≤ twoF l (p + 5) 2 ∧ 0 ≤ twoF l (p + 8) 2 ∧ isF l (p + 4) 45 = true ∧ isF l (p + 7) 45 = true then ({ t with y := twoF l p 4, mo := twoF l (p + 5) 2, d := twoF l (p + 8) 2, dt := true }, (p : Int) + 10)
  else ({ t with y := twoF l p 4, mo := twoF l (p + 5) 2, d := twoF l (p + 8) 2 }, -1)
def TupP (x : RT × Int) (w : World) (e : Ending) (w' : World) : Prop := e = .returned (.tuple #[.agg x.1.v.toArray, .int .i64 x.2]) ∧ Below w.heap.size w w'
theorem fin_date (tmps : Array Value) (W : World) (N : Nat) (t : RT) (b : Value) (hp : tmps.getD 6 undef = .pointer (some ⟨N, 0, none⟩)) (hb : tmps.getD 7 undef = b) (h : Blk W N 30 t.v) :
    (results Tryd.f23 tmps).run Tryd.prog W = .ok (.tuple #[.agg t.v.toArray, b]) W := by
  rw [results_row_tmp (p := 6) (t := 7) (ty := 30) rfl tmps W N t.v.toArray hp (load_T h), hb]
set_option maxRecDepth 100000 in
set_option maxHeartbeats 8000000 in
theorem rdate_any (s : ByteArray) (p : Nat) (t : RT) (hs : s.size ≤ 1000000) (hp : p ≤ 1000000) (w : World) : Calls Tryd.prog 23 #[.string s, .int .i64 p, .agg t.v.toArray] w (TupP (dateR s.data.toList p t) w) := by
  obtain ⟨wb, hwb⟩ : ∃ wb, (w.alloc (.cells t.v.toArray 30)).alloc (.cells RT.zero.v.toArray 30) = wb := ⟨_, rfl⟩
  have hT0 : Hid (TB w.heap.size w wb t RT.zero) := by rw [← hwb]; exact TB.start w t
  obtain ⟨N, hN⟩ : ∃ N, w.heap.size = N := ⟨_, rfl⟩
  have hN1 : (w.alloc (.cells t.v.toArray 30)).heap.size = N + 1 := by simp [hN]
  have H1 := Lib.hid (fun W (hW : Below wb.heap.size wb W) => two_at s p 4 (p : Int) rfl hs (by omega) (by omega) (by omega) wb W hW)
  have H2 := Lib.hid (fun W (hW : Below wb.heap.size wb W) => two_at s (p + 5) 2 ((p : Int) + 5) (by omega) hs (by omega) (by omega) (by omega) wb W hW)
  have H3 := Lib.hid (fun W (hW : Below wb.heap.size wb W) => two_at s (p + 8) 2 ((p : Int) + 8) (by omega) hs (by omega) (by omega) (by omega) wb W hW)
  have K1 := Lib.hid (fun (wc W : World) (hW : Below wc.heap.size wc W) => is_at s (p + 4) 45 ((p : Int) + 4) 45 (by omega) rfl hs (by omega) wc W hW)
  have K2 := Lib.hid (fun (wc W : World) (hW : Below wc.heap.size wc W) => is_at s (p + 7) 45 ((p : Int) + 7) 45 (by omega) rfl hs (by omega) wc W hW)
  have HF : Hid (∀ x w', dateR s.data.toList p t = x → Below w.heap.size w w' → TupP (dateR s.data.toList p t) w (.returned (.tuple #[.agg x.1.v.toArray, .int .i64 x.2])) w') := fun x w' h1 h2 => by rw [h1]; exact ⟨rfl, h2⟩
  have HD : Hid (dateR s.data.toList p t = if 0 ≤ twoF s.data.toList p 4 ∧ 0 ≤ twoF s.data.toList (p + 5) 2 ∧ 0 ≤ twoF s.data.toList (p + 8) 2 ∧ isF s.data.toList (p + 4) 45 = true ∧ isF s.data.toList (p + 7) 45 = true then ({ t with y := twoF s.data.toList p 4, mo := twoF s.data.toList (p + 5) 2, d := twoF s.data.toList (p + 8) 2, dt := true }, (p : Int) + 10)
    else ({ t with y := twoF s.data.toList p 4, mo := twoF s.data.toList (p + 5) 2, d := twoF s.data.toList (p + 8) 2 }, -1)) := rfl
  rw [hN] at HF hT0
  generalize TupP (dateR s.data.toList p t) w = Po at *
  generalize dateR s.data.toList p t = R at *
  generalize twoF s.data.toList p 4 = Y at *
  generalize twoF s.data.toList (p + 5) 2 = M at *
  generalize twoF s.data.toList (p + 8) 2 = D at *
  generalize isF s.data.toList (p + 4) 45 = b1 at *
  generalize isF s.data.toList (p + 7) 45 = b2 at *
  have hz := zeroT
  clear hs
  go_enter Tryd.func23, Tryd.ntmps23
  go_wp2_with fail
  clear hwb hN1
  refine (H1.out _ (Below.refl _ _)).mono ?_
  rintro e w1 ⟨rfl, q1⟩
  have p1 := Lib.hid q1
  clear q1
  go_wp2_with fail
  refine (H2.out _ p1.out).mono ?_
  rintro e w2 ⟨rfl, q2⟩
  have p2 := Lib.hid q2
  clear q2
  go_wp2_with fail
  refine (H3.out _ p2.out).mono ?_
  rintro e w3 ⟨rfl, q3⟩
  have hT3 : Hid (TB N w w3 t RT.zero) := hT0.out.go q3
  have c3 := hT3.out.a.cell 3 (.int .i64 t.y) rfl
  have c4 := hT3.out.a.cell 4 (.int .i64 t.mo) rfl
  have c5 := hT3.out.a.cell 5 (.int .i64 t.d) rfl
  have f3 := hT3.out.a.free 3
  have f4 := hT3.out.a.free 4
  have f5 := hT3.out.a.free 5
  have hT4 : Hid (TB N w (((w3.setCell ⟨N, 3, none⟩ (.int .i64 Y)).setCell ⟨N, 4, none⟩ (.int .i64 M)).setCell ⟨N, 5, none⟩ (.int .i64 D)) { t with y := Y, mo := M, d := D } RT.zero) :=
    ((hT3.out.set 3 (.int .i64 Y) { t with y := Y } rfl).set 4 (.int .i64 M) { t with y := Y, mo := M } rfl).set 5 (.int .i64 D) { t with y := Y, mo := M, d := D } rfl
  clear q3 H1 H2 H3 hT0 p1 p2 hT3 hz
  go_upto_region 2 with fail
  generalize ((w3.setCell ⟨N, 3, none⟩ (.int .i64 Y)).setCell ⟨N, 4, none⟩ (.int .i64 M)).setCell ⟨N, 5, none⟩ (.int .i64 D) = wc at *
  clear c3 c4 c5 f3 f4 f5
  obtain ⟨t1, ht1⟩ : ∃ t1 : RT, ({ t with y := Y, mo := M, d := D } : RT) = t1 := ⟨_, rfl⟩
  have ht2 : Hid (({ t with y := Y, mo := M, d := D, dt := true } : RT) = { t1 with dt := true }) := by show _ = _; rw [← ht1]
  have ey : t1.y = Y := by rw [← ht1]
  have em : t1.mo = M := by rw [← ht1]
  have ed : t1.d = D := by rw [← ht1]
  rw [ht1] at hT4 HD
  rw [ht2.out] at HD
  have c3 := hT4.out.a.cell 3 (.int .i64 Y) (by rw [← ey]; rfl)
  have c4 := hT4.out.a.cell 4 (.int .i64 M) (by rw [← em]; rfl)
  have c5 := hT4.out.a.cell 5 (.int .i64 D) (by rw [← ed]; rfl)
  clear ht1 ht2 ey em ed
  by_cases hY : Y < 0
  · clear K1 K2 c4 c5
    have hR := Lib.hid (HD.out.trans (if_neg (by omega)))
    have hTb := Lib.hid (hT4.out)
    have hfin := Lib.hid (HF.out _ _ hR.out (hTb.out.put t1).below)
    clear HF HD hR
    go_wp2_with (first | (refine wpList_load_row rfl 30 (.tmp 5) rfl N rfl 30 _ _ _ hTb.out.a Tryd.underlying30 rfl (rt_i t1) ?_) | (refine wpList_store_row rfl 30 (.tmp 6) (.tmp 49) rfl (N + 1) _ rfl rfl 30 _ hTb.out.b (rt_i t1) (rt_z _ t1) (rt_one t1) ?_))
    exact bodyPost_ret (v := .tuple #[.agg t1.v.toArray, .int .i64 (-1)]) (fin_date _ _ (N + 1) t1 _ rfl rfl (hTb.out.put t1).b) rfl hfin.out
  · by_cases hM : M < 0
    · clear K1 K2 c5
      have hR := Lib.hid (HD.out.trans (if_neg (by omega)))
      have hTb := Lib.hid (hT4.out)
      have hfin := Lib.hid (HF.out _ _ hR.out (hTb.out.put t1).below)
      clear HF HD hR
      go_wp2_with (first | (refine wpList_load_row rfl 30 (.tmp 5) rfl N rfl 30 _ _ _ hTb.out.a Tryd.underlying30 rfl (rt_i t1) ?_) | (refine wpList_store_row rfl 30 (.tmp 6) (.tmp 49) rfl (N + 1) _ rfl rfl 30 _ hTb.out.b (rt_i t1) (rt_z _ t1) (rt_one t1) ?_))
      exact bodyPost_ret (v := .tuple #[.agg t1.v.toArray, .int .i64 (-1)]) (fin_date _ _ (N + 1) t1 _ rfl rfl (hTb.out.put t1).b) rfl hfin.out
    · by_cases hDn : D < 0
      · clear K1 K2
        have hR := Lib.hid (HD.out.trans (if_neg (by omega)))
        have hTb := Lib.hid (hT4.out)
        have hfin := Lib.hid (HF.out _ _ hR.out (hTb.out.put t1).below)
        clear HF HD hR
        go_wp2_with (first | (refine wpList_load_row rfl 30 (.tmp 5) rfl N rfl 30 _ _ _ hTb.out.a Tryd.underlying30 rfl (rt_i t1) ?_) | (refine wpList_store_row rfl 30 (.tmp 6) (.tmp 49) rfl (N + 1) _ rfl rfl 30 _ hTb.out.b (rt_i t1) (rt_z _ t1) (rt_one t1) ?_))
        exact bodyPost_ret (v := .tuple #[.agg t1.v.toArray, .int .i64 (-1)]) (fin_date _ _ (N + 1) t1 _ rfl rfl (hTb.out.put t1).b) rfl hfin.out
      · have K1c := Lib.hid (K1.out wc)
        have K2c := Lib.hid (fun wd => K2.out wc wd)
        clear K1 K2
        go_wp2_with fail
        refine (K1c.out _ (Below.refl _ _)).mono ?_
        rintro e w5 ⟨rfl, q5⟩
        have p5 := Lib.hid q5
        clear q5
        cases b1 with
        | false =>
          have hR := Lib.hid (HD.out.trans (if_neg (by simp)))
          have hTb := Lib.hid (hT4.out.go p5.out)
          have hfin := Lib.hid (HF.out _ _ hR.out (hTb.out.put t1).below)
          clear HF HD hR
          go_wp2_with (first | (refine wpList_load_row rfl 30 (.tmp 5) rfl N rfl 30 _ _ _ hTb.out.a Tryd.underlying30 rfl (rt_i t1) ?_) | (refine wpList_store_row rfl 30 (.tmp 6) (.tmp 49) rfl (N + 1) _ rfl rfl 30 _ hTb.out.b (rt_i t1) (rt_z _ t1) (rt_one t1) ?_))
          exact bodyPost_ret (v := .tuple #[.agg t1.v.toArray, .int .i64 (-1)]) (fin_date _ _ (N + 1) t1 _ rfl rfl (hTb.out.put t1).b) rfl hfin.out
        | true =>
          go_wp2_with fail
          refine (K2c.out _ p5.out).mono ?_
          rintro e w6 ⟨rfl, q6⟩
          have p6 := Lib.hid q6
          clear q6
          cases b2 with
          | false =>
            have hR := Lib.hid (HD.out.trans (if_neg (by simp)))
            have hTb := Lib.hid (hT4.out.go p6.out)
            have hfin := Lib.hid (HF.out _ _ hR.out (hTb.out.put t1).below)
            clear HF HD hR
            go_wp2_with (first | (refine wpList_load_row rfl 30 (.tmp 5) rfl N rfl 30 _ _ _ hTb.out.a Tryd.underlying30 rfl (rt_i t1) ?_) | (refine wpList_store_row rfl 30 (.tmp 6) (.tmp 49) rfl (N + 1) _ rfl rfl 30 _ hTb.out.b (rt_i t1) (rt_z _ t1) (rt_one t1) ?_))
            exact bodyPost_ret (v := .tuple #[.agg t1.v.toArray, .int .i64 (-1)]) (fin_date _ _ (N + 1) t1 _ rfl rfl (hTb.out.put t1).b) rfl hfin.out
          | true =>
            have hR := Lib.hid (HD.out.trans (if_pos (by refine ⟨by omega, by omega, by omega, ?_, ?_⟩ <;> first | rfl | trivial)))
            have hT6 := Lib.hid (hT4.out.go p6.out)
            have c0 := hT6.out.a.cell 0 (.bool t1.dt) rfl
            have f0 := hT6.out.a.free 0
            have hT7 := Lib.hid (hT6.out.set 0 (.bool true) { t1 with dt := true } rfl)
            have hfin := Lib.hid (HF.out _ _ hR.out (hT7.out.put { t1 with dt := true }).below)
            clear HF HD hR c3 c4 c5
            obtain ⟨t2, ht2⟩ : ∃ t2 : RT, ({ t1 with dt := true } : RT) = t2 := ⟨_, rfl⟩
            rw [ht2] at hT7 hfin
            clear ht2
            go_upto_region 5 with fail
            generalize w6.setCell ⟨N, 0, none⟩ (.bool true) = w7 at *
            clear c0 f0
            go_wp2_with (first | (refine wpList_load_row rfl 30 (.tmp 5) rfl N rfl 30 _ _ _ hT7.out.a Tryd.underlying30 rfl (rt_i t2) ?_) | (refine wpList_store_row rfl 30 (.tmp 6) (.tmp 51) rfl (N + 1) _ rfl rfl 30 _ hT7.out.b (rt_i t2) (rt_z _ t2) (rt_one t2) ?_))
            exact bodyPost_ret (v := .tuple #[.agg t2.v.toArray, .int .i64 ((p : Int) + 10)]) (fin_date _ _ (N + 1) t2 _ rfl rfl (hT7.out.put t2).b) rfl hfin.out
end Go.Proofs.YtckeefjmamggmaaDoor
