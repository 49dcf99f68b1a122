/-
  Helper: the walk of number.times.
-/
import Derived.Test.YtpankmaljafnnaaGreatDoorDcTim0
namespace Go.Proofs.YtpankmaljafnnaaGreatDoor
open Go.RowKit
set_option linter.unusedVariables false
set_option linter.unusedSimpArgs false

theorem fin_times (tmps : Array Value) (W : World) (N : Nat) (b : Bool) (a : Option Addr) (n c : Nat) (e : Int) (hp : tmps.getD 4 undef = .pointer (some ⟨N, 0, none⟩)) (h : Blk W N 61 (nvl b a n c e)) :
    (results Tryz.f56 tmps).run Tryz.prog W = .ok (.agg (nvl b a n c e).toArray) W :=
  results_row (p := 4) (ty := 61) rfl tmps W N _ hp (load_num h)
set_option maxRecDepth 100000 in
set_option maxHeartbeats 8000000 in
theorem times_any (b1 b2 : Bool) (p q : List UInt8) (e1 e2 : Int) (a1 a2 : Option Addr) (k1 k2 : Nat) (w : World) (hAp : AD p) (hAq : AD q) (hc1 : p.length ≤ k1) (hc2 : q.length ≤ k2) (hr1 : Rb w a1 p) (hr2 : Rb w a2 q) (h1 : -10000 ≤ e1) (h2 : e1 ≤ 10000) (h3 : -10000 ≤ e2) (h4 : e2 ≤ 10000) (h0 : 1 ≤ p.length) (hl1 : p.length ≤ 1000) (hl2 : q.length ≤ 1000) :
    Calls Tryz.prog 56 #[.agg (nvl b1 a1 p.length k1 e1).toArray, .agg (nvl b2 a2 q.length k2 e2).toArray] w (PluP (zi b1 (numv p) * zi b2 (numv q)) (e1 + e2) w) := by
  obtain ⟨wa, hwa⟩ : ∃ wa, w.alloc (.cells (nvl b1 a1 p.length k1 e1).toArray 61) = wa := ⟨_, rfl⟩
  obtain ⟨wm, hwm⟩ : ∃ wm, wa.alloc (.cells (nvl b2 a2 q.length k2 e2).toArray 61) = wm := ⟨_, rfl⟩
  obtain ⟨wb, hwb⟩ : ∃ wb, wm.alloc (.cells #[.bool false, .slice none 0 0, .int .i64 0] 61) = wb := ⟨_, rfl⟩
  obtain ⟨N, hN⟩ : ∃ N, w.heap.size = N := ⟨_, rfl⟩
  have s1 : wa.heap.size = N + 1 := by rw [← hwa, ← hN]; simp
  have s2 : wm.heap.size = N + 1 + 1 := by rw [← hwm, ← s1]; simp
  have s3 : Hid (wb.heap.size = N + 1 + 1 + 1) := by show _ = _; rw [← hwb, ← s2]; simp
  have hBn : Hid (Blk wb N 61 (nvl b1 a1 p.length k1 e1)) := by
    rw [← hwb, ← hwm]; refine Blk.old (Blk.old ?_ _) _; rw [← hwa, ← hN]; exact Blk.new w _ _
  have hBm : Hid (Blk wb (N + 1) 61 (nvl b2 a2 q.length k2 e2)) := by
    rw [← hwb]; refine Blk.old ?_ _; rw [← hwm, ← s1]; exact Blk.new wa _ _
  have hBr : Hid (Blk wb (N + 1 + 1) 61 (nvl false none 0 0 0)) := by
    rw [← hwb, ← s2]; exact Blk.new wm _ _
  have hb : Hid (Below N w wb) := by
    rw [← hwb, ← hwm, ← hwa, ← hN]; exact (((Below.refl _ w).alloc (Nat.le_refl _) _).alloc (by simp) _).alloc (by simp; omega) _
  have hP1 : Hid (∀ V, Below (N + 1 + 1 + 1) wb V → Rb V a1 p) := fun V h => (hr1.go (by rw [hN]; exact hb.out)).below h (by rw [s3.out]; exact Nat.le_refl _)
  have hP2 : Hid (∀ V, Below (N + 1 + 1 + 1) wb V → Rb V a2 q) := fun V h => (hr2.go (by rw [hN]; exact hb.out)).below h (by rw [s3.out]; exact Nat.le_refl _)
  have HCell : Hid (∀ V, Below (N + 1 + 1 + 1) wb V → V.cell? ⟨N, 0, none⟩ = some (.bool b1) ∧ V.cell? ⟨N, 1, none⟩ = some (.slice a1 p.length k1) ∧ V.cell? ⟨N, 2, none⟩ = some (.int .i64 e1) ∧ V.cell? ⟨N + 1, 0, none⟩ = some (.bool b2) ∧ V.cell? ⟨N + 1, 1, none⟩ = some (.slice a2 q.length k2) ∧ V.cell? ⟨N + 1, 2, none⟩ = some (.int .i64 e2)) := fun V h => by
    have y := hBn.out.go h (by omega)
    have x := hBm.out.go h (by omega)
    exact ⟨y.cell 0 _ rfl, y.cell 1 _ rfl, y.cell 2 _ rfl, x.cell 0 _ rfl, x.cell 1 _ rfl, x.cell 2 _ rfl⟩
  have HLr : Hid (∀ V, Below (N + 1 + 1 + 1) wb V → Blk V (N + 1 + 1) 61 (nvl false none 0 0 0)) := fun V h => hBr.out.go h (by omega)
  have hM : p.length * q.length ≤ 1000 * 1000 := Nat.mul_le_mul hl1 hl2
  have HCS := Lib.hid (colm_start p q)
  have HCT := Lib.hid (fun i j C hi hj h hp hq => colm_step p q i j C hi hj hp hq h)
  have HCN := Lib.hid (fun i C hi h => colm_next p q i C hi h)
  have HCE := Lib.hid (fun C h => colm_end p q C h)
  have HAp := Lib.hid (fun i hi => hAp.at i hi)
  have HAq := Lib.hid (fun i hi => hAq.at i hi)
  have HRS := Lib.hid (fun C D h => car_start C D (81 * (p.length * q.length)) h)
  have HRT := Lib.hid (fun C D k cy j col h h2 h3 h4 => car_step C D (81 * (p.length * q.length)) k cy j col h h2 h3 h4)
  have HRE := Lib.hid (fun C D cy h h2 h3 => car_end p q C D (81 * (p.length * q.length)) cy hAp hAq h h2 h3)
  have hzt := zi_times b1 b2 (numv p) (numv q)
  have HFin : Hid (∀ V a c S, Below (N + 1 + 1 + 1) wb V → Rb V a S → S.length = p.length + q.length → p.length + q.length ≤ c → AD S → numv S = numv p * numv q → Blk (((V.setCell ⟨N + 1 + 1, 0, none⟩ (.bool (b1 != b2))).setCell ⟨N + 1 + 1, 1, none⟩ (.slice a (p.length + q.length) c)).setCell ⟨N + 1 + 1, 2, none⟩ (.int .i64 (e1 + e2))) (N + 1 + 1) 61 (nvl (b1 != b2) a (p.length + q.length) c (e1 + e2)) ∧ PluP (zi b1 (numv p) * zi b2 (numv q)) (e1 + e2) w (.returned (.agg (nvl (b1 != b2) a (p.length + q.length) c (e1 + e2)).toArray)) (((V.setCell ⟨N + 1 + 1, 0, none⟩ (.bool (b1 != b2))).setCell ⟨N + 1 + 1, 1, none⟩ (.slice a (p.length + q.length) c)).setCell ⟨N + 1 + 1, 2, none⟩ (.int .i64 (e1 + e2)))) := fun V a c S y1 y2 y3 y4 y5 y6 => plus_fin hN hb.out y1 (HLr.out V y1) y2 y3 y4 (by omega) (by omega) y5 (by rw [y6, hzt])
  have HRC : Hid (∀ V, Below (N + 1 + 1 + 1) wb V → V.cell? ⟨N + 1 + 1, 0, none⟩ = some (.bool false) ∧ V.cell? ⟨N + 1 + 1, 1, none⟩ = some (.slice none 0 0) ∧ V.cell? ⟨N + 1 + 1, 2, none⟩ = some (.int .i64 0) ∧ V.frozen? ⟨N + 1 + 1, 0, none⟩ = false ∧ V.frozen? ⟨N + 1 + 1, 1, none⟩ = false ∧ V.frozen? ⟨N + 1 + 1, 2, none⟩ = false) := fun V h => by
    have y := HLr.out V h
    exact ⟨y.cell 0 _ rfl, y.cell 1 _ rfl, y.cell 2 _ rfl, y.free 0, y.free 1, y.free 2⟩
  generalize PluP (zi b1 (numv p) * zi b2 (numv q)) (e1 + e2) w = Po at *
  clear hr1 hr2 hzt hBn hBm hBr hAp hAq HLr
  obtain ⟨n, hn⟩ : ∃ n, p.length = n := ⟨_, rfl⟩
  obtain ⟨m, hm⟩ : ∃ m, q.length = m := ⟨_, rfl⟩
  have HCL : Hid (∀ i j C, ColM p q i j C → C.length = n + m ∧ ∀ c, C.getD c 0 ≤ 81 * (i * m + j)) := fun i j C h => ⟨by rw [h.1, hn, hm], by have := h.2.2; rw [hm] at this; exact this⟩
  rw [hn] at hc1 h0 hl1 hM
  rw [hm] at hc2 hl2 hM
  rw [hn, hm] at HFin HCS HRS HRT HRE HCell
  simp only [hn] at HCT HCN HCE HAp
  simp only [hm] at HCT HCN HCE HAq
  have w1 : IntKind.i64.wrap ((n : Int) + (m : Int)) = (n : Int) + (m : Int) := wrapI _ (by omega) (by omega)
  have w2 : IntKind.i64.wrap (e1 + e2) = e1 + e2 := wrapI _ (by omega) (by omega)
  obtain ⟨c0, c1, c2, d0, d1, d2⟩ := HCell.out wb (Below.refl _ wb)
  have hnh := Lib.hid hn
  have hmh := Lib.hid hm
  have hGe : N < N + 1 + 1 + 1 := by omega
  clear hn hm
  go_enter Tryz.func56, Tryz.ntmps56
  go_wp2_with (at_make; refine make_ints _ rfl _ _ 26 rfl Tryz.underlying26 _ _ (n + m) rfl rfl ?m1 ?m2 ?m3 ?_)
  case m1 => omega
  case m2 => omega
  case m3 => omega
  intro w3 hrow hb3
  rw [s3.out] at hrow hb3 ⊢
  have HROW := Lib.hid hrow
  have HB3 := Lib.hid hb3
  clear hrow hb3 c0 c1 c2 d0 d1 d2 hwb hwm hwa
  obtain ⟨c0, c1, c2, d0, d1, d2⟩ := HCell.out w3 HB3.out
  obtain ⟨G, hG⟩ : ∃ G, N + 1 + 1 + 1 = G := ⟨_, rfl⟩
  simp only [hG] at HROW HB3 HCell HFin HRC hP1 hP2 s3 ⊢
  go_wp2_with fail
  go_loopw [26] (fun v wr => ∃ (i : Nat) (C : List Nat), i ≤ n ∧ v = .int .i64 i ∧ Hid (ColM p q i 0 C) ∧ Hid (RowI wr G C) ∧ Hid (Below G wb wr)) (fun v _ => n - (intOf v).toNat)
  case atStart => exact ⟨0, _, Nat.zero_le _, rfl, HCS, HROW, HB3⟩
  case round =>
    clear HROW HB3 c0 c1 c2 d0 d1 d2
    obtain ⟨i, C, hi, rfl, HS, hrow, hbel⟩ := hrel
    obtain ⟨c0, c1, c2, d0, d1, d2⟩ := HCell.out wr hbel.out
    by_cases hlt : i < n
    · have hii : (i : Int) < (n : Int) := by omega
      obtain ⟨ga, oa, rfl, _, x1⟩ := (hP1.out wr hbel.out).at i (by rw [hnh.out]; exact hlt)
      obtain ⟨a1, a2⟩ := HAp.out i hlt
      obtain ⟨x, hx⟩ : ∃ x, (p.getD i 0).toNat = x + 48 := ⟨(p.getD i 0).toNat - 48, by omega⟩
      have x2 : wr.cell? ⟨ga, oa + i, none⟩ = some (.int .u8 ((x : Int) + 48)) := by rw [x1, hx]; rfl
      have hx9 : x ≤ 9 := by omega
      have hxh := Lib.hid hx
      clear x1 a1 a2 hx
      go_wp2_with fail
      go_loopw [34] (fun v wr => ∃ (j : Nat) (C : List Nat), j ≤ m ∧ v = .int .i64 j ∧ Hid (ColM p q i j C) ∧ Hid (RowI wr G C) ∧ Hid (Below G wb wr)) (fun v _ => m - (intOf v).toNat)
      case atStart => exact ⟨0, C, Nat.zero_le _, rfl, HS, hrow, hbel⟩
      case round =>
        clear HS hrow hbel c0 c1 c2 d0 d1 d2 x2
        obtain ⟨j, C, hj, rfl, HS, hrow, hbel⟩ := hrel
        by_cases hjl : j < m
        · have hji : (j : Int) < (m : Int) := by omega
          obtain ⟨gb, ob, rfl, _, y1⟩ := (hP2.out _ hbel.out).at j (by rw [hmh.out]; exact hjl)
          obtain ⟨a1, a2⟩ := HAq.out j hjl
          obtain ⟨y, hy⟩ : ∃ y, (q.getD j 0).toNat = y + 48 := ⟨(q.getD j 0).toNat - 48, by omega⟩
          have y9 : y ≤ 9 := by omega
          obtain ⟨hcl, hcb⟩ := HCL.out i j C HS.out
          have HS2 := HCT.out i j C hlt hjl HS.out (by rw [hxh.out]; omega) (by omega)
          rw [hxh.out, hy, Nat.add_sub_cancel, Nat.add_sub_cancel] at HS2
          obtain ⟨c, hc⟩ : ∃ c, i + j + 1 = c := ⟨_, rfl⟩
          rw [hc] at HS2
          have hcI : (i : Int) + (j : Int) + 1 = (c : Int) := by omega
          have hc1 : (c : Int) < (n : Int) + (m : Int) := by omega
          have hsc := hrow.out.cell c (by omega)
          have hsf := hrow.out.free c
          have hsb0 := hcb c
          have him : i * m ≤ n * m := Nat.mul_le_mul_right _ hi
          have hxy : x * y ≤ 9 * 9 := Nat.mul_le_mul hx9 y9
          have y2 : wr.cell? ⟨gb, ob + j, none⟩ = some (.int .u8 ((y : Int) + 48)) := by rw [y1, hy]; rfl
          have hsb : C.getD c 0 ≤ 90000000 := by omega
          have hrw := Lib.hid (fun z hz => hrow.out.set c (C.getD c 0 + x * y) z hz)
          clear HS hy hxh hcb hcl hsb0 him a1 a2 y1 hrow
          generalize C.getD c 0 = sv at *
          have hpq : (x : Int) * (y : Int) ≤ 81 := by
            have : ((x * y : Nat) : Int) ≤ 81 := by omega
            rw [Int.natCast_mul] at this; exact this
          have hpq0 : 0 ≤ (x : Int) * (y : Int) := Int.mul_nonneg (by omega) (by omega)
          have hz : (sv : Int) + (x : Int) * (y : Int) = ((sv + x * y : Nat) : Int) := by rw [Int.natCast_add, Int.natCast_mul]
          have hzh := Lib.hid hz
          have HS2h := Lib.hid HS2
          have hxyh := Lib.hid hxy
          clear hz hxy HS2
          go_wp2_with fail
          go_roundw
          case rel => exact ⟨j + 1, C.set c (sv + x * y), by omega, by go_num, HS2h, Lib.hid (hrw.out _ hzh.out), Lib.hid (hbel.out.setCell (p := ⟨G, c, none⟩) (Nat.le_refl _) _)⟩
          case measure => simp [intOf]; omega
        · obtain rfl : j = m := by omega
          have hki : ¬ (j : Int) < (j : Int) := by omega
          have HS2 := Lib.hid (HCN.out i C hlt HS.out)
          clear HS
          go_wp2_with fail
          go_roundw
          case rel => exact ⟨i + 1, C, by omega, by go_num, HS2, hrow, hbel⟩
          case measure => simp [intOf]; omega
    · obtain rfl : i = n := by omega
      have hid : ¬ (i : Int) < (i : Int) := by omega
      have hend := Lib.hid (HCE.out C HS.out)
      clear HS HCS HCT HCN
      obtain ⟨H, hH⟩ : ∃ H, wr.heap.size = H := ⟨_, rfl⟩
      have hGH : G < H := by rw [← hH]; exact (Array.getElem?_eq_some_iff.1 hrow.out).1
      obtain ⟨v, rfl⟩ : ∃ v, v = wr := ⟨_, rfl⟩
      clear c0 c1 c2 d0 d1 d2
      go_wp2_with (at_make; refine make_bytes _ rfl _ _ 59 rfl Tryz.underlying59 _ _ (i + m) rfl rfl ?z1 ?z2 ?z3 ?_)
      case z3 => omega
      intro w5 hrow5 hb5
      have HROW5 := Lib.hid hrow5
      have HB5 := Lib.hid hb5
      clear hrow5 hb5
      have hCl := hend.out.2.2
      have hstart := HRS.out C (List.replicate (i + m) 0) (by rw [hCl]; simp)
      have hbw := Lib.hid (hbel.out.trans (HB5.out.mono (Nat.le_of_lt hGH)))
      have HRT2 : Hid (∀ (D : List UInt8) (k cy j col : Nat), CarI C D (81 * (i * m)) k cy → j + k + 1 = i + m → col = C.getD j 0 + cy → CarI C (D.set j (UInt8.ofNat (48 + col % 10))) (81 * (i * m)) (k + 1) (col / 10)) := fun D k cy j col h h2 h3 => HRT.out C D k cy j col h hend.out.2.1 (by rw [hCl]; exact h2) h3
      have HRI : Hid (∀ (D : List UInt8) (k cy : Nat), CarI C D (81 * (i * m)) k cy → D.length = i + m ∧ cy ≤ 81000000) := fun D k cy h => ⟨h.1.trans hCl, by have := h.2.2.1; omega⟩
      have HRE2 : Hid (∀ (D : List UInt8) (cy : Nat), CarI C D (81 * (i * m)) (i + m) cy → numv D = numv p * numv q ∧ AD D ∧ D.length = i + m) := fun D cy h => HRE.out C D cy hend.out.1 hCl (by rw [hCl]; exact h)
      have HCB : Hid (∀ j, C.getD j 0 ≤ 81000000) := fun j => by have := hend.out.2.1 j; omega
      have hrowC : Hid (∀ V, Below H v V → RowI V G C) := fun V h => hrow.out.go h hGH
      have hst := Lib.hid hstart
      clear HRS HRT HRE hend hstart hnh hmh HAp HAq HCE HCL hP1 hP2
      obtain ⟨L, hL⟩ : ∃ L, i + m = L := ⟨_, rfl⟩
      have hLI : (i : Int) + (m : Int) = (L : Int) := by omega
      have hCIh : Hid (∀ D k cy, CarI C D (81 * (i * m)) k cy → CarI C D (81 * (i * m)) k cy) := fun _ _ _ h => h
      go_wp2_with fail
      go_loopw [62, 11] (fun iv cvv wr2 => ∃ (k cy : Nat) (D : List UInt8), k ≤ i + m ∧ iv = .int .i64 k ∧ cvv = .int .i64 cy ∧ Hid (CarI C D (81 * (i * m)) k cy) ∧ Hid (Row wr2 H 5 D) ∧ Hid (Below H v wr2)) (fun iv _ _ => i + m - (intOf iv).toNat)
      case atStart => exact ⟨0, 0, _, Nat.zero_le _, rfl, rfl, hst, HROW5, HB5⟩
      case round =>
        clear HROW5 HB5 hst hbw
        obtain ⟨k, cy, D, hk, rfl, rfl, hI, hrow2, hbel2⟩ := hrel
        obtain ⟨hDl, hcy⟩ := HRI.out D k cy hI.out
        by_cases hkl : k < i + m
        · obtain ⟨j, hj⟩ : ∃ j, j + k + 1 = i + m := ⟨i + m - k - 1, by omega⟩
          have hat : (i : Int) + (m : Int) - 1 - (k : Int) = (j : Int) := by omega
          have hat2 : (L : Int) - 1 - (k : Int) = (j : Int) := by omega
          have j1 : (j : Int) < (i : Int) + (m : Int) := by omega
          have k1 : (k : Int) < (i : Int) + (m : Int) := by omega
          have hsc := (hrowC.out wr hbel2.out).cell j (by rw [hCl]; omega)
          have hsb := HCB.out j
          have hs2 := HRT2.out D k cy j (C.getD j 0 + cy) hI.out hj rfl
          generalize C.getD j 0 = sv at *
          obtain ⟨col, hcol⟩ : ∃ col, sv + cy = col := ⟨_, rfl⟩
          rw [hcol] at hs2
          have hcI : (sv : Int) + (cy : Int) = (col : Int) := by omega
          have hcb : col ≤ 162000000 := by omega
          have HS2 := Lib.hid hs2
          have hput := fun (W : World) (h : Row W H 5 D) (z : Int) hz => h.put j (48 + col % 10) z (by omega) (by omega) hz
          have HROW : Hid (∀ z : Int, z = ((48 + col % 10 : Nat) : Int) → Row (wr.setCell ⟨H, j, none⟩ (.int .u8 z)) H 5 (D.set j (UInt8.ofNat (48 + col % 10)))) := fun z hz => hput wr hrow2.out z hz
          have HBW : Hid (∀ z, Below H v (wr.setCell ⟨H, j, none⟩ (.int .u8 z))) := fun z => hbel2.out.setCell (p := ⟨H, j, none⟩) (Nat.le_refl _) _
          have hdc := hrow2.out.cell j (by omega)
          have hdf := hrow2.out.free j
          clear hput hs2 hI hrow2 hbel2 HRT2 HRI HRE2 HCB hrowC HFin HRC HCell hcol
          go_wp2_with fail
          refine ⟨⟨k + 1, col / 10, _, by omega, by go_num, by go_num, HS2, Lib.hid (HROW.out _ (by omega)), Lib.hid (HBW.out _)⟩, ?_⟩
          simp [intOf]; omega
        · have hke : k = i + m := by omega
          have hbw2 := Lib.hid (hbel.out.trans (hbel2.out.mono (Nat.le_of_lt hGH)))
          obtain ⟨g1, g2, g3⟩ := HRE2.out D cy (by have := hI.out; rw [hke] at this; exact this)
          obtain ⟨f10, f20⟩ := HFin.out wr (some ⟨H, 0, none⟩) (i + m) D hbw2.out hrow2.out.rb g3 (Nat.le_refl _) g2 g1
          have f1h := Lib.hid f10
          have f2h := Lib.hid f20
          obtain ⟨c0, c1, c2, d0, d1, d2⟩ := HCell.out wr hbw2.out
          obtain ⟨x0, x1, x2, x3, x4, x5⟩ := HRC.out wr hbw2.out
          have k1 : ¬ ((k : Int) < (i : Int) + (m : Int)) := by omega
          have k2 : ¬ ((k : Int) < (L : Int)) := by omega
          obtain ⟨bb, hbb⟩ : ∃ bb : Bool, (b1 != b2) = bb := ⟨_, rfl⟩
          rw [hbb, hL] at f1h f2h
          have hbb2 : (!(b1 == b2)) = bb := hbb
          clear hke f10 f20 g1 g2 g3 hbw2 hI hrow2 hbel2 HRT2 HRI HRE2 HCB hrowC HFin HRC HCell hrow hbel
          go_wp2
          exact bodyPost_ret (v := .agg (nvl bb (some ⟨H, 0, none⟩) L L (e1 + e2)).toArray) (fin_times _ _ (N + 1 + 1) bb (some ⟨H, 0, none⟩) L L (e1 + e2) rfl f1h.out) rfl f2h.out
end Go.Proofs.YtpankmaljafnnaaGreatDoor
