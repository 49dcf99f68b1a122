/-
  Helper: the walk of the reference's Read.
-/
import Derived.Test.YtckeefjmamggmaaDoorInRd3
namespace Go.Proofs.YtckeefjmamggmaaDoor
open Go.RowKit
set_option linter.unusedVariables false
set_option linter.unusedSimpArgs false

/-- the reference's Read -/
def readR (l : List UInt8) : RT × Bool :=
  if (dateR l 0 RT.zero).2 < 0 then ((clockR l 0 RT.zero).1, decide ((clockR l 0 RT.zero).2 = (l.length : Int)))
  else if l.length = 10 then ((dateR l 0 RT.zero).1, true)
  else if isF l 10 84 = true ∨ isF l 10 32 = true then
    if (clockR l 11 (dateR l 0 RT.zero).1).2 = (l.length : Int) then ((clockR l 11 (dateR l 0 RT.zero).1).1, true)
    else if (clockR l 11 (dateR l 0 RT.zero).1).2 < 0 then ((clockR l 11 (dateR l 0 RT.zero).1).1, false)
    else ((zoneR l (clockR l 11 (dateR l 0 RT.zero).1).2.toNat (clockR l 11 (dateR l 0 RT.zero).1).1).1, decide ((zoneR l (clockR l 11 (dateR l 0 RT.zero).1).2.toNat (clockR l 11 (dateR l 0 RT.zero).1).1).2 = (l.length : Int)))
  else ((dateR l 0 RT.zero).1, false)
theorem dateR_p (l : List UInt8) (p : Nat) (t : RT) : ((dateR l p t).2 = -1 ∨ (dateR l p t).2 = (p : Int) + 10) ∧ (dateR l p t).1.na = t.na := by
  unfold dateR; split
  · exact ⟨.inr rfl, rfl⟩
  · exact ⟨.inl rfl, rfl⟩
theorem clockR_p (l : List UInt8) (p : Nat) (t : RT) (hp : p ≤ 100) : (clockR l p t).2 ≤ 1000 := by
  unfold clockR
  split
  · split
    · show (if _ then (-1 : Int) else _) ≤ _
      split
      · show (-1 : Int) ≤ _
        omega
      · show (p : Int) + 9 + ((digs l (p + 9)).length : Nat) ≤ _
        omega
    · show (p : Int) + 8 ≤ _
      omega
  · show (-1 : Int) ≤ _
    omega
theorem fin_read0 (tmps : Array Value) (W : World) (N : Nat) (t : RT) (b : Value) (hp : tmps.getD 2 undef = .pointer (some ⟨N, 0, none⟩)) (hb : tmps.getD 3 undef = b) (h : Blk W N 30 t.v) :
    (results Tryd.f11 tmps).run Tryd.prog W = .ok (.tuple #[.agg t.v.toArray, b]) W := by
  rw [results_row_tmp (p := 2) (t := 3) (ty := 30) rfl tmps W N t.v.toArray hp (load_T h), hb]
/-- the two boxes: the result's and the local variable's -/
structure T2 (N M : Nat) (w W : World) (r t : RT) : Prop where
  a : Blk W N 30 r.v
  b : Blk W M 30 t.v
  ne : N < M
  below : Below N w W
theorem T2.go {N M : Nat} {w W W' : World} {r t : RT} (h : T2 N M w W r t) (hb : Below W.heap.size W W') : T2 N M w W' r t :=
  ⟨h.a.go hb h.a.lt, h.b.go hb h.b.lt, h.ne, h.below.trans (hb.mono (Nat.le_of_lt h.a.lt))⟩
theorem T2.putR {N M : Nat} {w W : World} {r t : RT} (h : T2 N M w W r t) (x : RT) : T2 N M w (W.setRow N x.v.toArray) x t :=
  ⟨rowB h.a _, rowFarB h.b (by have := h.ne; omega) _, h.ne, below_row h.below (Nat.le_refl _) _⟩
theorem T2.putL {N M : Nat} {w W : World} {r t : RT} (h : T2 N M w W r t) (x : RT) : T2 N M w (W.setRow M x.v.toArray) r x :=
  ⟨rowFarB h.a (by have := h.ne; omega) _, rowB h.b _, h.ne, below_row h.below (Nat.le_of_lt h.ne) _⟩
def RdP (x : RT × Bool) (w : World) (e : Ending) (w' : World) : Prop := e = .returned (.tuple #[.agg x.1.v.toArray, .bool x.2]) ∧ Below w.heap.size w w'
set_option maxRecDepth 100000 in
set_option maxHeartbeats 8000000 in
theorem rread_any (s : ByteArray) (hs : s.size ≤ 100000) (w : World) : Calls Tryd.prog 11 #[.string s] w (RdP (readR s.data.toList) w) := by
  obtain ⟨wb, hwb⟩ : ∃ wb, w.alloc (.cells RT.zero.v.toArray 30) = wb := ⟨_, rfl⟩
  obtain ⟨N, hN⟩ : ∃ N, w.heap.size = N := ⟨_, rfl⟩
  have hB0 : Hid (Blk wb N 30 RT.zero.v ∧ Below N w wb) := by rw [← hwb, ← hN]; exact ⟨Blk.new w _ _, (Below.refl _ w).alloc (Nat.le_refl _) _⟩
  have HD0 := Lib.hid (fun W => rdate_any s 0 RT.zero (by omega) (by omega) W)
  have HC0 := Lib.hid (fun W => rclock_any s 0 RT.zero (by omega) (by omega) rfl W)
  have HC1 := Lib.hid (fun W => rclock_any s 11 (dateR s.data.toList 0 RT.zero).1 (by omega) (by omega) ((dateR_p _ _ _).2) W)
  have HK1 := Lib.hid (fun (wc W : World) (hW : Below wc.heap.size wc W) => is_at s 10 84 10 84 rfl rfl (by omega) (by omega) wc W hW)
  have HK2 := Lib.hid (fun (wc W : World) (hW : Below wc.heap.size wc W) => is_at s 10 32 10 32 rfl rfl (by omega) (by omega) wc W hW)
  have hq := clockR_p s.data.toList 11 (dateR s.data.toList 0 RT.zero).1 (by omega)
  have HZ : Hid (∀ (q : Nat) (W : World), q ≤ 1000 → Calls Tryd.prog 26 #[.string s, .int .i64 q, .agg (clockR s.data.toList 11 (dateR s.data.toList 0 RT.zero).1).1.v.toArray] W (TupP (zoneR s.data.toList q (clockR s.data.toList 11 (dateR s.data.toList 0 RT.zero).1).1) W)) := fun q W h => rzone_any s q _ (by omega) (by omega) W
  have hP := (dateR_p s.data.toList 0 RT.zero).1
  have hls : s.data.toList.length = s.size := by simp
  have HR : Hid (readR s.data.toList = if (dateR s.data.toList 0 RT.zero).2 < 0 then ((clockR s.data.toList 0 RT.zero).1, decide ((clockR s.data.toList 0 RT.zero).2 = (s.size : Int)))
    else if s.size = 10 then ((dateR s.data.toList 0 RT.zero).1, true)
    else if isF s.data.toList 10 84 = true ∨ isF s.data.toList 10 32 = true then
      if (clockR s.data.toList 11 (dateR s.data.toList 0 RT.zero).1).2 = (s.size : Int) then ((clockR s.data.toList 11 (dateR s.data.toList 0 RT.zero).1).1, true)
      else if (clockR s.data.toList 11 (dateR s.data.toList 0 RT.zero).1).2 < 0 then ((clockR s.data.toList 11 (dateR s.data.toList 0 RT.zero).1).1, false)
      else ((zoneR s.data.toList (clockR s.data.toList 11 (dateR s.data.toList 0 RT.zero).1).2.toNat (clockR s.data.toList 11 (dateR s.data.toList 0 RT.zero).1).1).1, decide ((zoneR s.data.toList (clockR s.data.toList 11 (dateR s.data.toList 0 RT.zero).1).2.toNat (clockR s.data.toList 11 (dateR s.data.toList 0 RT.zero).1).1).2 = (s.size : Int)))
    else ((dateR s.data.toList 0 RT.zero).1, false)) := by show _ = _; rw [← hls]; rfl
  have HF : Hid (∀ x w', readR s.data.toList = x → Below w.heap.size w w' → RdP (readR s.data.toList) w (.returned (.tuple #[.agg x.1.v.toArray, .bool x.2])) w') := fun x w' h1 h2 => by rw [h1]; exact ⟨rfl, h2⟩
  rw [hN] at HF
  clear hls
  generalize RdP (readR s.data.toList) w = Po at *
  generalize readR s.data.toList = R at *
  generalize hcz : (fun q => zoneR s.data.toList q (clockR s.data.toList 11 (dateR s.data.toList 0 RT.zero).1).1) = ZF at *
  have ez : ∀ q, zoneR s.data.toList q (clockR s.data.toList 11 (dateR s.data.toList 0 RT.zero).1).1 = ZF q := fun q => congrFun hcz q
  simp only [ez] at HZ HR
  clear hcz ez
  generalize clockR s.data.toList 11 (dateR s.data.toList 0 RT.zero).1 = C1 at *
  generalize clockR s.data.toList 0 RT.zero = C0 at *
  generalize dateR s.data.toList 0 RT.zero = D0 at *
  generalize isF s.data.toList 10 84 = b1 at *
  generalize isF s.data.toList 10 32 = b2 at *
  obtain ⟨t1, P1⟩ := D0
  obtain ⟨t0, Q0⟩ := C0
  obtain ⟨t2, Q⟩ := C1
  replace hP : P1 = -1 ∨ P1 = 10 := hP.elim (fun h => Or.inl h) (fun h => Or.inr (h.trans rfl))
  replace hq : Q ≤ 1000 := hq
  replace HD0 : Hid (∀ W, Calls Tryd.prog 23 #[.string s, .int .i64 0, .agg RT.zero.v.toArray] W fun e w' => e = .returned (.tuple #[.agg t1.v.toArray, .int .i64 P1]) ∧ Below W.heap.size W w') := HD0
  replace HC0 : Hid (∀ W, Calls Tryd.prog 24 #[.string s, .int .i64 0, .agg RT.zero.v.toArray] W fun e w' => e = .returned (.tuple #[.agg t0.v.toArray, .int .i64 Q0]) ∧ Below W.heap.size W w') := HC0
  replace HC1 : Hid (∀ W, Calls Tryd.prog 24 #[.string s, .int .i64 11, .agg t1.v.toArray] W fun e w' => e = .returned (.tuple #[.agg t2.v.toArray, .int .i64 Q]) ∧ Below W.heap.size W w') := HC1
  replace HZ : Hid (∀ (q : Nat) (W : World), q ≤ 1000 → Calls Tryd.prog 26 #[.string s, .int .i64 q, .agg t2.v.toArray] W fun e w' => e = .returned (.tuple #[.agg (ZF q).1.v.toArray, .int .i64 (ZF q).2]) ∧ Below W.heap.size W w') := HZ
  replace HR : Hid (R = if P1 < 0 then (t0, decide (Q0 = (s.size : Int))) else if s.size = 10 then (t1, true) else if b1 = true ∨ b2 = true then (if Q = (s.size : Int) then (t2, true) else if Q < 0 then (t2, false) else ((ZF Q.toNat).1, decide ((ZF Q.toNat).2 = (s.size : Int)))) else (t1, false)) := HR
  have hz := zeroT
  go_enter Tryd.func11, Tryd.ntmps11
  go_wp2_with fail
  clear hwb
  refine (HD0.out _).mono ?_
  rintro e w1 ⟨rfl, q1⟩
  obtain ⟨M, hM⟩ : ∃ M, w1.heap.size = M := ⟨_, rfl⟩
  have hT0 : Hid (T2 N M w (w1.alloc (.cells RT.zero.v.toArray 30)) RT.zero RT.zero) := by
    have hlt := hB0.out.1.lt
    have hba : Below wb.heap.size wb (w1.alloc (.cells RT.zero.v.toArray 30)) := q1.alloc q1.size _
    refine ⟨hB0.out.1.go hba hlt, by rw [← hM]; exact Blk.new w1 _ _, by have := q1.size; omega, hB0.out.2.trans (hba.mono (Nat.le_of_lt hlt))⟩
  have hT1 := Lib.hid (hT0.out.putL t1)
  clear q1 HD0 hB0
  go_upto_region 2 with (refine wpList_store_row rfl 30 (.tmp 4) (.tmp 10) rfl M _ rfl rfl 30 _ hT0.out.b (rt_i t1) (rt_z _ t1) (rt_one t1) ?_)
  generalize (w1.alloc (.cells RT.zero.v.toArray 30)).setRow M t1.v.toArray = wc at *
  clear hT0 hM
  rcases hP with rfl | rfl
  · replace HR := Lib.hid (HR.out.trans (if_pos (by omega)))
    clear HC1 HZ HK1 HK2
    go_wp2_with fail
    refine (HC0.out _).mono ?_
    rintro e w2 ⟨rfl, q2⟩
    have hT2 := Lib.hid (hT1.out.go q2)
    have hT3 := Lib.hid (hT2.out.putL t0)
    clear q2 HC0 hT1
    go_upto_region 4 with (refine wpList_store_row rfl 30 (.tmp 4) (.tmp 18) rfl M _ rfl rfl 30 _ hT2.out.b (rt_i t0) (rt_z _ t0) (rt_one t0) ?_)
    generalize w2.setRow M t0.v.toArray = wd at *
    clear hT2
    by_cases hQ : Q0 = (s.size : Int)
    · have he : (Q0 == (s.size : Int)) = true := beq_iff_eq.2 hQ
      have hfin := Lib.hid (HF.out (t0, true) _ (HR.out.trans (by rw [decide_eq_true hQ])) (hT3.out.putR t0).below)
      clear HF HR
      go_wp2_with (first | (refine wpList_load_row rfl 30 (.tmp 4) rfl M rfl 30 _ _ _ hT3.out.b Tryd.underlying30 rfl (rt_i t0) ?_) | (refine wpList_store_row rfl 30 (.tmp 2) (.tmp 20) rfl N _ rfl rfl 30 _ hT3.out.a (rt_i t0) (rt_z _ t0) (rt_one t0) ?_))
      exact bodyPost_ret (v := .tuple #[.agg t0.v.toArray, .bool true]) (fin_read0 _ _ N t0 _ rfl rfl (hT3.out.putR t0).a) rfl hfin.out
    · have he : (Q0 == (s.size : Int)) = false := beq_eq_false_iff_ne.2 hQ
      have hfin := Lib.hid (HF.out (t0, false) _ (HR.out.trans (by rw [decide_eq_false hQ])) (hT3.out.putR t0).below)
      clear HF HR
      go_wp2_with (first | (refine wpList_load_row rfl 30 (.tmp 4) rfl M rfl 30 _ _ _ hT3.out.b Tryd.underlying30 rfl (rt_i t0) ?_) | (refine wpList_store_row rfl 30 (.tmp 2) (.tmp 20) rfl N _ rfl rfl 30 _ hT3.out.a (rt_i t0) (rt_z _ t0) (rt_one t0) ?_))
      exact bodyPost_ret (v := .tuple #[.agg t0.v.toArray, .bool false]) (fin_read0 _ _ N t0 _ rfl rfl (hT3.out.putR t0).a) rfl hfin.out
  · replace HR := Lib.hid (HR.out.trans (if_neg (by omega)))
    clear HC0
    by_cases h10 : s.size = 10
    · have he : ((10 : Int) == (s.size : Int)) = true := beq_iff_eq.2 (by omega)
      have hfin := Lib.hid (HF.out (t1, true) _ (HR.out.trans (if_pos h10)) (hT1.out.putR t1).below)
      clear HF HR
      go_wp2_with (first | (refine wpList_load_row rfl 30 (.tmp 4) rfl M rfl 30 _ _ _ hT1.out.b Tryd.underlying30 rfl (rt_i t1) ?_) | (refine wpList_store_row rfl 30 (.tmp 2) (.tmp 29) rfl N _ rfl rfl 30 _ hT1.out.a (rt_i t1) (rt_z _ t1) (rt_one t1) ?_))
      exact bodyPost_ret (v := .tuple #[.agg t1.v.toArray, .bool true]) (fin_read0 _ _ N t1 _ rfl rfl (hT1.out.putR t1).a) rfl hfin.out
    · have he : ((10 : Int) == (s.size : Int)) = false := beq_eq_false_iff_ne.2 (by omega)
      replace HR := Lib.hid (HR.out.trans (if_neg h10))
      have HK1c := Lib.hid (HK1.out wc)
      have HK2c := Lib.hid (HK2.out wc)
      clear HK1 HK2
      go_wp2_with fail
      refine (HK1c.out _ (Below.refl _ _)).mono ?_
      rintro e w3 ⟨rfl, q3⟩
      have p3 := Lib.hid q3
      clear q3
      cases b1 with
      | true =>
        replace HR := Lib.hid (HR.out.trans (if_pos (by first | exact Or.inl rfl | exact Or.inr rfl | trivial | simp)))
        have hT4 := Lib.hid (hT1.out.go p3.out)
        clear HK1c HK2c hT1
        go_wp2_with (refine wpList_load_row rfl 30 (.tmp 4) rfl M rfl 30 _ _ _ hT4.out.b Tryd.underlying30 rfl (rt_i t1) ?_)
        refine (HC1.out _).mono ?_
        rintro e w5 ⟨rfl, q5⟩
        have hT5 := Lib.hid (hT4.out.go q5)
        have hT6 := Lib.hid (hT5.out.putL t2)
        clear q5 HC1 hT4
        go_upto_region 10 with (refine wpList_store_row rfl 30 (.tmp 4) (.tmp 47) rfl M _ rfl rfl 30 _ hT5.out.b (rt_i t2) (rt_z _ t2) (rt_one t2) ?_)
        generalize w5.setRow M t2.v.toArray = we at *
        clear hT5
        by_cases hQ : Q = (s.size : Int)
        · have he : (Q == (s.size : Int)) = true := beq_iff_eq.2 hQ
          have hfin := Lib.hid (HF.out (t2, true) _ (HR.out.trans (if_pos hQ)) (hT6.out.putR t2).below)
          clear HF HR
          go_wp2_with (first | (refine wpList_load_row rfl 30 (.tmp 4) rfl M rfl 30 _ _ _ hT6.out.b Tryd.underlying30 rfl (rt_i t2) ?_) | (refine wpList_store_row rfl 30 (.tmp 2) (.tmp 53) rfl N _ rfl rfl 30 _ hT6.out.a (rt_i t2) (rt_z _ t2) (rt_one t2) ?_))
          exact bodyPost_ret (v := .tuple #[.agg t2.v.toArray, .bool true]) (fin_read0 _ _ N t2 _ rfl rfl (hT6.out.putR t2).a) rfl hfin.out
        · have he : (Q == (s.size : Int)) = false := beq_eq_false_iff_ne.2 hQ
          replace HR := Lib.hid (HR.out.trans (if_neg hQ))
          by_cases hneg : Q < 0
          · skip
            have hfin := Lib.hid (HF.out (t2, false) _ (HR.out.trans (if_pos hneg)) (hT6.out.putR t2).below)
            clear HF HR
            go_wp2_with (first | (refine wpList_load_row rfl 30 (.tmp 4) rfl M rfl 30 _ _ _ hT6.out.b Tryd.underlying30 rfl (rt_i t2) ?_) | (refine wpList_store_row rfl 30 (.tmp 2) (.tmp 56) rfl N _ rfl rfl 30 _ hT6.out.a (rt_i t2) (rt_z _ t2) (rt_one t2) ?_))
            exact bodyPost_ret (v := .tuple #[.agg t2.v.toArray, .bool false]) (fin_read0 _ _ N t2 _ rfl rfl (hT6.out.putR t2).a) rfl hfin.out
          · replace HR := Lib.hid (HR.out.trans (if_neg hneg))
            obtain ⟨q, rfl⟩ : ∃ q : Nat, Q = (q : Int) := ⟨Q.toNat, by omega⟩
            have HZq := Lib.hid (fun W => HZ.out q W (by omega))
            rw [show ((q : Nat) : Int).toNat = q by omega] at HR
            generalize ZF q = zz at *
            obtain ⟨t3, Q3⟩ := zz
            replace HZq : Hid (∀ W : World, Calls Tryd.prog 26 #[.string s, .int .i64 q, .agg t2.v.toArray] W fun e w' => e = .returned (.tuple #[.agg t3.v.toArray, .int .i64 Q3]) ∧ Below W.heap.size W w') := HZq
            replace HR : Hid (R = (t3, decide (Q3 = (s.size : Int)))) := HR
            clear HZ
            go_wp2_with (refine wpList_load_row rfl 30 (.tmp 4) rfl M rfl 30 _ _ _ hT6.out.b Tryd.underlying30 rfl (rt_i t2) ?_)
            refine (HZq.out _).mono ?_
            rintro e w7 ⟨rfl, q7⟩
            have hT7 := Lib.hid (hT6.out.go q7)
            have hT8 := Lib.hid (hT7.out.putL t3)
            clear q7 HZq hT6
            go_upto_region 15 with (refine wpList_store_row rfl 30 (.tmp 4) (.tmp 62) rfl M _ rfl rfl 30 _ hT7.out.b (rt_i t3) (rt_z _ t3) (rt_one t3) ?_)
            generalize w7.setRow M t3.v.toArray = wf at *
            clear hT7
            by_cases hQ3 : Q3 = (s.size : Int)
            · have he3 : (Q3 == (s.size : Int)) = true := beq_iff_eq.2 hQ3
              have hfin := Lib.hid (HF.out (t3, true) _ (HR.out.trans (by rw [decide_eq_true hQ3])) (hT8.out.putR t3).below)
              clear HF HR
              go_wp2_with (first | (refine wpList_load_row rfl 30 (.tmp 4) rfl M rfl 30 _ _ _ hT8.out.b Tryd.underlying30 rfl (rt_i t3) ?_) | (refine wpList_store_row rfl 30 (.tmp 2) (.tmp 64) rfl N _ rfl rfl 30 _ hT8.out.a (rt_i t3) (rt_z _ t3) (rt_one t3) ?_))
              exact bodyPost_ret (v := .tuple #[.agg t3.v.toArray, .bool true]) (fin_read0 _ _ N t3 _ rfl rfl (hT8.out.putR t3).a) rfl hfin.out
            · have he3 : (Q3 == (s.size : Int)) = false := beq_eq_false_iff_ne.2 hQ3
              have hfin := Lib.hid (HF.out (t3, false) _ (HR.out.trans (by rw [decide_eq_false hQ3])) (hT8.out.putR t3).below)
              clear HF HR
              go_wp2_with (first | (refine wpList_load_row rfl 30 (.tmp 4) rfl M rfl 30 _ _ _ hT8.out.b Tryd.underlying30 rfl (rt_i t3) ?_) | (refine wpList_store_row rfl 30 (.tmp 2) (.tmp 64) rfl N _ rfl rfl 30 _ hT8.out.a (rt_i t3) (rt_z _ t3) (rt_one t3) ?_))
              exact bodyPost_ret (v := .tuple #[.agg t3.v.toArray, .bool false]) (fin_read0 _ _ N t3 _ rfl rfl (hT8.out.putR t3).a) rfl hfin.out
      | false =>
        go_wp2_with fail
        refine (HK2c.out _ p3.out).mono ?_
        rintro e w4 ⟨rfl, q4⟩
        have p4 := Lib.hid q4
        clear q4
        cases b2 with
        | true =>
          replace HR := Lib.hid (HR.out.trans (if_pos (by first | exact Or.inl rfl | exact Or.inr rfl | trivial | simp)))
          have hT4 := Lib.hid (hT1.out.go p4.out)
          clear HK1c HK2c hT1
          go_wp2_with (refine wpList_load_row rfl 30 (.tmp 4) rfl M rfl 30 _ _ _ hT4.out.b Tryd.underlying30 rfl (rt_i t1) ?_)
          refine (HC1.out _).mono ?_
          rintro e w5 ⟨rfl, q5⟩
          have hT5 := Lib.hid (hT4.out.go q5)
          have hT6 := Lib.hid (hT5.out.putL t2)
          clear q5 HC1 hT4
          go_upto_region 10 with (refine wpList_store_row rfl 30 (.tmp 4) (.tmp 47) rfl M _ rfl rfl 30 _ hT5.out.b (rt_i t2) (rt_z _ t2) (rt_one t2) ?_)
          generalize w5.setRow M t2.v.toArray = we at *
          clear hT5
          by_cases hQ : Q = (s.size : Int)
          · have he : (Q == (s.size : Int)) = true := beq_iff_eq.2 hQ
            have hfin := Lib.hid (HF.out (t2, true) _ (HR.out.trans (if_pos hQ)) (hT6.out.putR t2).below)
            clear HF HR
            go_wp2_with (first | (refine wpList_load_row rfl 30 (.tmp 4) rfl M rfl 30 _ _ _ hT6.out.b Tryd.underlying30 rfl (rt_i t2) ?_) | (refine wpList_store_row rfl 30 (.tmp 2) (.tmp 53) rfl N _ rfl rfl 30 _ hT6.out.a (rt_i t2) (rt_z _ t2) (rt_one t2) ?_))
            exact bodyPost_ret (v := .tuple #[.agg t2.v.toArray, .bool true]) (fin_read0 _ _ N t2 _ rfl rfl (hT6.out.putR t2).a) rfl hfin.out
          · have he : (Q == (s.size : Int)) = false := beq_eq_false_iff_ne.2 hQ
            replace HR := Lib.hid (HR.out.trans (if_neg hQ))
            by_cases hneg : Q < 0
            · skip
              have hfin := Lib.hid (HF.out (t2, false) _ (HR.out.trans (if_pos hneg)) (hT6.out.putR t2).below)
              clear HF HR
              go_wp2_with (first | (refine wpList_load_row rfl 30 (.tmp 4) rfl M rfl 30 _ _ _ hT6.out.b Tryd.underlying30 rfl (rt_i t2) ?_) | (refine wpList_store_row rfl 30 (.tmp 2) (.tmp 56) rfl N _ rfl rfl 30 _ hT6.out.a (rt_i t2) (rt_z _ t2) (rt_one t2) ?_))
              exact bodyPost_ret (v := .tuple #[.agg t2.v.toArray, .bool false]) (fin_read0 _ _ N t2 _ rfl rfl (hT6.out.putR t2).a) rfl hfin.out
            · replace HR := Lib.hid (HR.out.trans (if_neg hneg))
              obtain ⟨q, rfl⟩ : ∃ q : Nat, Q = (q : Int) := ⟨Q.toNat, by omega⟩
              have HZq := Lib.hid (fun W => HZ.out q W (by omega))
              rw [show ((q : Nat) : Int).toNat = q by omega] at HR
              generalize ZF q = zz at *
              obtain ⟨t3, Q3⟩ := zz
              replace HZq : Hid (∀ W : World, Calls Tryd.prog 26 #[.string s, .int .i64 q, .agg t2.v.toArray] W fun e w' => e = .returned (.tuple #[.agg t3.v.toArray, .int .i64 Q3]) ∧ Below W.heap.size W w') := HZq
              replace HR : Hid (R = (t3, decide (Q3 = (s.size : Int)))) := HR
              clear HZ
              go_wp2_with (refine wpList_load_row rfl 30 (.tmp 4) rfl M rfl 30 _ _ _ hT6.out.b Tryd.underlying30 rfl (rt_i t2) ?_)
              refine (HZq.out _).mono ?_
              rintro e w7 ⟨rfl, q7⟩
              have hT7 := Lib.hid (hT6.out.go q7)
              have hT8 := Lib.hid (hT7.out.putL t3)
              clear q7 HZq hT6
              go_upto_region 15 with (refine wpList_store_row rfl 30 (.tmp 4) (.tmp 62) rfl M _ rfl rfl 30 _ hT7.out.b (rt_i t3) (rt_z _ t3) (rt_one t3) ?_)
              generalize w7.setRow M t3.v.toArray = wf at *
              clear hT7
              by_cases hQ3 : Q3 = (s.size : Int)
              · have he3 : (Q3 == (s.size : Int)) = true := beq_iff_eq.2 hQ3
                have hfin := Lib.hid (HF.out (t3, true) _ (HR.out.trans (by rw [decide_eq_true hQ3])) (hT8.out.putR t3).below)
                clear HF HR
                go_wp2_with (first | (refine wpList_load_row rfl 30 (.tmp 4) rfl M rfl 30 _ _ _ hT8.out.b Tryd.underlying30 rfl (rt_i t3) ?_) | (refine wpList_store_row rfl 30 (.tmp 2) (.tmp 64) rfl N _ rfl rfl 30 _ hT8.out.a (rt_i t3) (rt_z _ t3) (rt_one t3) ?_))
                exact bodyPost_ret (v := .tuple #[.agg t3.v.toArray, .bool true]) (fin_read0 _ _ N t3 _ rfl rfl (hT8.out.putR t3).a) rfl hfin.out
              · have he3 : (Q3 == (s.size : Int)) = false := beq_eq_false_iff_ne.2 hQ3
                have hfin := Lib.hid (HF.out (t3, false) _ (HR.out.trans (by rw [decide_eq_false hQ3])) (hT8.out.putR t3).below)
                clear HF HR
                go_wp2_with (first | (refine wpList_load_row rfl 30 (.tmp 4) rfl M rfl 30 _ _ _ hT8.out.b Tryd.underlying30 rfl (rt_i t3) ?_) | (refine wpList_store_row rfl 30 (.tmp 2) (.tmp 64) rfl N _ rfl rfl 30 _ hT8.out.a (rt_i t3) (rt_z _ t3) (rt_one t3) ?_))
                exact bodyPost_ret (v := .tuple #[.agg t3.v.toArray, .bool false]) (fin_read0 _ _ N t3 _ rfl rfl (hT8.out.putR t3).a) rfl hfin.out
        | false =>
          have hT4 := Lib.hid (hT1.out.go p4.out)
          have hfin := Lib.hid (HF.out (t1, false) _ (HR.out.trans (if_neg (by simp))) (hT4.out.putR t1).below)
          clear HF HR
          go_wp2_with (first | (refine wpList_load_row rfl 30 (.tmp 4) rfl M rfl 30 _ _ _ hT4.out.b Tryd.underlying30 rfl (rt_i t1) ?_) | (refine wpList_store_row rfl 30 (.tmp 2) (.tmp 40) rfl N _ rfl rfl 30 _ hT4.out.a (rt_i t1) (rt_z _ t1) (rt_one t1) ?_))
          exact bodyPost_ret (v := .tuple #[.agg t1.v.toArray, .bool false]) (fin_read0 _ _ N t1 _ rfl rfl (hT4.out.putR t1).a) rfl hfin.out
end Go.Proofs.YtckeefjmamggmaaDoor
