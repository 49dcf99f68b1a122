/-
  Helper: the walk of number.compare.
-/
import Derived.Test.YtpankmaljafnnaaGreatDoorDcPlus
namespace Go.Proofs.YtpankmaljafnnaaGreatDoor
open Go.RowKit
set_option linter.unusedVariables false
set_option linter.unusedSimpArgs false

set_option maxHeartbeats 400000 in
theorem isNaN_int (x : Int) (w : World) : Calls Tryz.prog 105 #[.int .i64 x] w fun e w' => e = .returned (.bool false) ∧ w = w' := by
  have hd : (x != x) = false := by simp
  go_enter Tryz.func105, Tryz.ntmps105
  go_wp2
  go_ret
  exact ⟨rfl, rfl⟩
set_option maxHeartbeats 1000000 in
theorem cmp_int (x y : Int) (w : World) : Calls Tryz.prog 76 #[.int .i64 x, .int .i64 y] w fun e w' => e = .returned (.int .i64 (Lib.compareInt x y)) ∧ w = w' := by
  have hx := Lib.hid (show Lib.compareInt x y = if x < y then -1 else if x > y then 1 else 0 from rfl)
  by_cases h1 : x < y
  · have hr : Hid (Lib.compareInt x y = -1) := by rw [hx.out, if_pos h1]; rfl
    go_enter Tryz.func76, Tryz.ntmps76
    go_wp2_with (go_at_call 105; refine (isNaN_int _ _).mono ?_; rintro e w' ⟨rfl, rfl⟩)
    go_ret
    rw [hr.out]
    exact ⟨rfl, rfl⟩
  · by_cases h2 : y < x
    · have hr : Hid (Lib.compareInt x y = 1) := by rw [hx.out, if_neg h1, if_pos h2]; rfl
      go_enter Tryz.func76, Tryz.ntmps76
      go_wp2_with (go_at_call 105; refine (isNaN_int _ _).mono ?_; rintro e w' ⟨rfl, rfl⟩)
      go_ret
      rw [hr.out]
      exact ⟨rfl, rfl⟩
    · have hr : Hid (Lib.compareInt x y = 0) := by rw [hx.out, if_neg h1, if_neg h2]; rfl
      go_enter Tryz.func76, Tryz.ntmps76
      go_wp2_with (go_at_call 105; refine (isNaN_int _ _).mono ?_; rintro e w' ⟨rfl, rfl⟩)
      go_ret
      rw [hr.out]
      exact ⟨rfl, rfl⟩
theorem cmp_int_sg (x y : Int) : Lib.compareInt x y = sgI (x - y) := by
  show (if x < y then (-1 : Int) else if x > y then 1 else 0) = _
  unfold sgI
  by_cases h : x < y
  · rw [if_pos h, if_pos (by omega)]
  · rw [if_neg h]
    by_cases h2 : x > y
    · rw [if_pos h2, if_neg (by omega), if_pos (by omega)]
    · rw [if_neg h2, if_neg (by omega), if_neg (by omega)]
theorem sgI_vals (z : Int) : sgI z = -1 ∨ sgI z = 0 ∨ sgI z = 1 := by
  unfold sgI
  split
  · exact .inl rfl
  · split
    · exact .inr (.inr rfl)
    · exact .inr (.inl rfl)
/-- compare's answer -/
def cmpV (x e1 y e2 : Int) : Int :=
  if sgI x ≠ sgI y ∨ sgI x = 0 then sgI (sgI x - sgI y)
  else (if sgI (((body 10 x.natAbs).length : Int) + e1 - (((body 10 y.natAbs).length : Int) + e2)) = 0 then cmpL (body 10 x.natAbs) (body 10 y.natAbs) else sgI (((body 10 x.natAbs).length : Int) + e1 - (((body 10 y.natAbs).length : Int) + e2))) * sgI x
set_option maxRecDepth 100000 in
set_option maxHeartbeats 8000000 in
theorem compare_any (x y e1 e2 : Int) (a1 a2 : Option Addr) (k1 k2 : Nat) (w : World) (hc1 : (body 10 x.natAbs).length ≤ k1) (hc2 : (body 10 y.natAbs).length ≤ k2) (hl1 : (body 10 x.natAbs).length ≤ 1000000) (hl2 : (body 10 y.natAbs).length ≤ 1000000) (hr1 : Rb w a1 (body 10 x.natAbs)) (hr2 : Rb w a2 (body 10 y.natAbs)) (h1 : -10000 ≤ e1) (h2 : e1 ≤ 10000) (h3 : -10000 ≤ e2) (h4 : e2 ≤ 10000) :
    Calls Tryz.prog 57 #[.agg (nvl (neg x) a1 (body 10 x.natAbs).length k1 e1).toArray, .agg (nvl (neg y) a2 (body 10 y.natAbs).length k2 e2).toArray] w (fun en w' => en = .returned (.int .i64 (cmpV x e1 y e2)) ∧ Below w.heap.size w w') := by
  obtain ⟨wa, hwa⟩ : ∃ wa, w.alloc (.cells (nvl (neg x) a1 (body 10 x.natAbs).length k1 e1).toArray 61) = wa := ⟨_, rfl⟩
  obtain ⟨wb, hwb⟩ : ∃ wb, wa.alloc (.cells (nvl (neg y) a2 (body 10 y.natAbs).length k2 e2).toArray 61) = wb := ⟨_, rfl⟩
  obtain ⟨N, hN⟩ : ∃ N, w.heap.size = N := ⟨_, rfl⟩
  have s1 : wa.heap.size = N + 1 := by rw [← hwa, ← hN]; simp
  have hM : N + 1 + 1 = wb.heap.size := by rw [← hwb, ← s1]; simp
  have hBn : Hid (Blk wb N 61 (nvl (neg x) a1 (body 10 x.natAbs).length k1 e1)) := by
    rw [← hwb]; refine Blk.old ?_ _; rw [← hwa, ← hN]; exact Blk.new w _ _
  have hBm : Hid (Blk wb (N + 1) 61 (nvl (neg y) a2 (body 10 y.natAbs).length k2 e2)) := by
    rw [← hwb, ← s1]; exact Blk.new wa _ _
  have hb : Hid (Below N w wb) := by
    rw [← hwb, ← hwa, ← hN]; exact ((Below.refl _ w).alloc (Nat.le_refl _) _).alloc (by simp) _
  have hP1 : Hid (∀ V, Below (N + 1 + 1) wb V → Rb V a1 (body 10 x.natAbs)) := fun V h => (hr1.go (by rw [hN]; exact hb.out)).below h (by rw [hM]; exact Nat.le_refl _)
  have hP2 : Hid (∀ V, Below (N + 1 + 1) wb V → Rb V a2 (body 10 y.natAbs)) := fun V h => (hr2.go (by rw [hN]; exact hb.out)).below h (by rw [hM]; exact Nat.le_refl _)
  have HC1 : Hid (∀ V, Below (N + 1 + 1) wb V → Calls Tryz.prog 77 #[.agg (nvl (neg x) a1 (body 10 x.natAbs).length k1 e1).toArray] V (fun en w' => en = .returned (.int .i64 (sgI x)) ∧ Below (N + 1 + 1) wb w')) := fun V h => (sign_any x e1 a1 k1 hc1 hl1 V (hP1.out V h)).mono fun en w' ⟨y1, y2⟩ => ⟨y1, h.trans (y2.mono (by rw [hM]; exact h.size))⟩
  have HC2 : Hid (∀ V, Below (N + 1 + 1) wb V → Calls Tryz.prog 77 #[.agg (nvl (neg y) a2 (body 10 y.natAbs).length k2 e2).toArray] V (fun en w' => en = .returned (.int .i64 (sgI y)) ∧ Below (N + 1 + 1) wb w')) := fun V h => (sign_any y e2 a2 k2 hc2 hl2 V (hP2.out V h)).mono fun en w' ⟨y1, y2⟩ => ⟨y1, h.trans (y2.mono (by rw [hM]; exact h.size))⟩
  have HCd : Hid (∀ V, Below (N + 1 + 1) wb V → Calls Tryz.prog 74 #[.slice a1 (body 10 x.natAbs).length k1, .slice a2 (body 10 y.natAbs).length k2] V fun en w' => en = .returned (.int .i64 (cmpL (body 10 x.natAbs) (body 10 y.natAbs))) ∧ V = w') := fun V h => cmpD_any _ _ _ _ _ _ hl1 hl2 hc1 hc2 V (hP1.out V h) (hP2.out V h)
  have HcI : Hid (∀ (p q : Int) V, Calls Tryz.prog 76 #[.int .i64 p, .int .i64 q] V fun en w' => en = .returned (.int .i64 (sgI (p - q))) ∧ V = w') := fun p q V => by
    have := cmp_int p q V
    rw [cmp_int_sg] at this
    exact this
  have HcN : Hid (∀ V, Below (N + 1 + 1) wb V → V.cell? ⟨N, 0, none⟩ = some (.bool (neg x)) ∧ V.cell? ⟨N, 1, none⟩ = some (.slice a1 (body 10 x.natAbs).length k1) ∧ V.cell? ⟨N, 2, none⟩ = some (.int .i64 e1)) := fun V h => ⟨(hBn.out.go h (by omega)).cell 0 _ rfl, (hBn.out.go h (by omega)).cell 1 _ rfl, (hBn.out.go h (by omega)).cell 2 _ rfl⟩
  have HcM : Hid (∀ V, Below (N + 1 + 1) wb V → V.cell? ⟨N + 1, 0, none⟩ = some (.bool (neg y)) ∧ V.cell? ⟨N + 1, 1, none⟩ = some (.slice a2 (body 10 y.natAbs).length k2) ∧ V.cell? ⟨N + 1, 2, none⟩ = some (.int .i64 e2)) := fun V h => ⟨(hBm.out.go h (by omega)).cell 0 _ rfl, (hBm.out.go h (by omega)).cell 1 _ rfl, (hBm.out.go h (by omega)).cell 2 _ rfl⟩
  have HF : Hid (∀ r V, cmpV x e1 y e2 = r → Below (N + 1 + 1) wb V → (fun en w' => en = .returned (.int .i64 (cmpV x e1 y e2)) ∧ Below w.heap.size w w') (Ending.returned (.int .i64 r)) V) := fun r V g1 g2 => ⟨by rw [g1], by rw [hN]; exact hb.out.trans (g2.mono (by omega))⟩
  have hs := sgI_vals x
  have hv := cmpL_vals (body 10 x.natAbs) (body 10 y.natAbs)
  generalize (fun (en : Ending) (w' : World) => en = .returned (.int .i64 (cmpV x e1 y e2)) ∧ Below w.heap.size w w') = Po at *
  unfold cmpV at HF
  have c := HcN.out wb (Below.refl _ wb)
  obtain ⟨c0, c1, c2⟩ := c
  have d := HcM.out wb (Below.refl _ wb)
  obtain ⟨d0, d1, d2⟩ := d
  have w1 : IntKind.i64.wrap (((body 10 x.natAbs).length : Int) + e1) = ((body 10 x.natAbs).length : Int) + e1 := wrapI _ (by omega) (by omega)
  have w2 : IntKind.i64.wrap (((body 10 y.natAbs).length : Int) + e2) = ((body 10 y.natAbs).length : Int) + e2 := wrapI _ (by omega) (by omega)
  have q0 : Below (N + 1 + 1) wb wb.drew := (Below.refl _ wb).drew
  clear hr1 hr2 hP1 hP2 hBm hBn hc1 hc2 hM hl1 hl2 hb
  generalize hcl : cmpL (body 10 x.natAbs) (body 10 y.natAbs) = K at *
  generalize (body 10 x.natAbs).length = n at *
  generalize (body 10 y.natAbs).length = m at *
  obtain ⟨s, hss⟩ : ∃ s, sgI x = s := ⟨_, rfl⟩
  obtain ⟨t, htt⟩ : ∃ t, sgI y = t := ⟨_, rfl⟩
  rw [hss] at HC1 HF hs
  rw [htt] at HC2 HF
  generalize neg x = b1 at *
  generalize neg y = b2 at *
  clear hss htt hcl
  go_enter Tryz.func57, Tryz.ntmps57
  go_wp2_with fail
  clear hwb hwa hN s1
  go_region_law (first
    | (go_simp; go_at_call 77; (with_reducible show Calls _ _ #[.agg #[.bool b1, _, _]] _ _); refine (HC1.out _ (by assumption)).mono ?_; rintro en wc ⟨rfl, qc⟩; obtain ⟨x0, x1, x2⟩ := HcM.out wc qc)
    | (go_simp; go_at_call 77; (with_reducible show Calls _ _ #[.agg #[.bool b2, _, _]] _ _); refine (HC2.out _ (by assumption)).mono ?_; rintro en wd ⟨rfl, qd⟩)
    | (go_simp; go_at_call 76; refine (HcI.out _ _ _).mono ?_; rintro en we ⟨rfl, rfl⟩))
  all_goals
    obtain ⟨y0, y1, y2⟩ := HcN.out wd qd
    obtain ⟨y3, y4, y5⟩ := HcM.out wd qd
    clear qc x0 x1 x2 q0 c0 c1 c2 d0 d1 d2
    by_cases hst : s = t
    · subst hst
      rw [show sgI (s - s) = 0 by rw [Int.sub_self]; rfl] at HF
      rw [show sgI (s - s) = 0 by rw [Int.sub_self]; rfl]
      by_cases h0 : s = 0
      · subst h0
        have HS := Lib.hid (HC1.out wd qd)
        have HF2 : Hid (∀ V, Below (N + 1 + 1) wb V → Po (.returned (.int .i64 0)) V) := fun V g => HF.out 0 V (if_pos (.inr rfl)) g
        clear HC1 HC2 HcN HcM HF HcI HCd hs hv
        go_wp2_with fail
        refine HS.out.mono ?_
        rintro en wf ⟨rfl, qf⟩
        have hfin := Lib.hid (HF2.out _ qf)
        clear HF2 qf
        go_wp2
        exact hfin.out
      · have hs0 : (s == 0) = false := by simpa using h0
        have HS := Lib.hid (HC1.out wd qd)
        have HF2 : Hid (∀ c V, (if sgI ((n : Int) + e1 - ((m : Int) + e2)) = 0 then K else sgI ((n : Int) + e1 - ((m : Int) + e2))) = c → Below (N + 1 + 1) wb V → Po (.returned (.int .i64 (c * s))) V) := fun c V hcc g => HF.out (c * s) V (by rw [if_neg (by rintro (g | g); exact g rfl; exact h0 g), hcc]) g
        have hcs := sgI_vals ((n : Int) + e1 - ((m : Int) + e2))
        clear HF
        go_wp2_with fail
        refine HS.out.mono ?_
        rintro en wf ⟨rfl, qf⟩
        obtain ⟨u0, u1, u2⟩ := HcN.out wf qf
        obtain ⟨u3, u4, u5⟩ := HcM.out wf qf
        have HS2 := Lib.hid (HC1.out wf qf)
        have HI := Lib.hid (HcI.out ((n : Int) + e1) ((m : Int) + e2) wf)
        have HD := Lib.hid (HCd.out wf qf)
        generalize sgI ((n : Int) + e1 - ((m : Int) + e2)) = c at *
        clear HS HC1 HC2 HcM HcI HCd y0 y1 y2 y3 y4 y5 qf
        go_wp2_with fail
        refine HI.out.mono ?_
        rintro en w' ⟨rfl, rfl⟩
        by_cases c0 : c = 0
        · subst c0
          have wr : IntKind.i64.wrap (K * s) = K * s := wrapI _ (by rcases hs with h | h | h <;> rcases hv with g | g | g <;> rw [h, g] <;> decide) (by rcases hs with h | h | h <;> rcases hv with g | g | g <;> rw [h, g] <;> decide)
          have HF3 : Hid (∀ V, Below (N + 1 + 1) wb V → Po (.returned (.int .i64 (K * s))) V) := fun V g => HF2.out K V (if_pos rfl) g
          clear HF2 hcs hs hv HI
          go_wp2_with fail
          refine HD.out.mono ?_
          rintro en w' ⟨rfl, rfl⟩
          clear HD
          go_wp2_with fail
          refine HS2.out.mono ?_
          rintro en wg ⟨rfl, qg⟩
          have hfin := Lib.hid (HF3.out _ qg)
          clear HF3 qg HS2
          go_wp2
          exact hfin.out
        · have hc0 : (c == 0) = false := by simpa using c0
          have wr : IntKind.i64.wrap (c * s) = c * s := wrapI _ (by rcases hs with h | h | h <;> rcases hcs with g | g | g <;> rw [h, g] <;> decide) (by rcases hs with h | h | h <;> rcases hcs with g | g | g <;> rw [h, g] <;> decide)
          have HF3 : Hid (∀ V, Below (N + 1 + 1) wb V → Po (.returned (.int .i64 (c * s))) V) := fun V g => HF2.out c V (if_neg c0) g
          clear HF2 hcs hs hv HI HD
          go_wp2_with fail
          refine HS2.out.mono ?_
          rintro en wg ⟨rfl, qg⟩
          have hfin := Lib.hid (HF3.out _ qg)
          clear HF3 qg HS2
          go_wp2
          exact hfin.out
    · have hfin := Lib.hid (HF.out (sgI (s - t)) wd (if_pos (.inl hst)) qd)
      have hr1 : (sgI (s - t) == 0) = false := by
        rw [beq_eq_false_iff_ne]; unfold sgI
        by_cases g : s - t < 0
        · rw [if_pos g]; decide
        · rw [if_neg g, if_pos (by omega)]; decide
      generalize sgI (s - t) = r at *
      have hr2 : (r != 0) = true := by rw [bne, hr1]; rfl
      clear HC1 HC2 HcN HcM HF HcI HCd hs hv
      go_wp2
      exact hfin.out
end Go.Proofs.YtpankmaljafnnaaGreatDoor
