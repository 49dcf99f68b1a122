/-
  Helper: the walk of number.plus.
-/
import Derived.Test.YtpankmaljafnnaaGreatDoorDcPlus0
namespace Go.Proofs.YtpankmaljafnnaaGreatDoor
open Go.RowKit
set_option linter.unusedVariables false
set_option linter.unusedSimpArgs false

theorem plus_v1 {p q Sp Sq S : List UInt8} {W u v cy : Nat} (b : Bool) (hp : AD p) (hq : AD q) (h1 : p.length + u + 1 ≤ W) (h2 : q.length + v + 1 ≤ W) (e1 : spreadL p W u = Sp) (e2 : spreadL q W v = Sq) (hS : S.length = W) (hA : AD S) (h : numv S + cy * 10 ^ W = numv Sp + numv Sq) :
    zi b (numv S) = zi b (numv p) * ((10 ^ u : Nat) : Int) + zi b (numv q) * ((10 ^ v : Nat) : Int) := by
  subst e1 e2
  rw [sum_res p q S W cy hp hq u v h1 h2 hS hA h, zi_sum, zi_mul, zi_mul]
theorem plus_v2 {p q Sp Sq S : List UInt8} {W u v cy : Nat} (b : Bool) (e1 : spreadL p W u = Sp) (e2 : spreadL q W v = Sq) (hS : S.length = W) (hA : AD S) (hle : numv Sq ≤ numv Sp) (hc : cy ≤ 1) (h : numv S + numv Sq = numv Sp + cy * 10 ^ W) :
    zi b (numv S) = zi b (numv p) * ((10 ^ u : Nat) : Int) + zi (!b) (numv q) * ((10 ^ v : Nat) : Int) := by
  subst e1 e2
  rw [numv_spread, numv_spread] at hle
  rw [dif_res p q S W cy hA hS u v hc hle h, zi_dif _ _ _ hle, zi_mul, zi_mul]
theorem rb_far_num {w : World} {a x : Option Addr} {l : List UInt8} {g t n c : Nat} {b : Bool} {e : Int} (hr : Rb w a l) (hB : Blk w g t (nvl b x n c e)) (hl : 0 < l.length) : ∀ ad, a = some ad → ad.block ≠ g := by
  intro ad h hg
  obtain ⟨gb, off, h2, _, hc⟩ := hr.at 0 hl
  rw [h] at h2
  cases h2
  have hg : gb = g := hg
  subst hg
  unfold Blk at hB
  rw [cell_of_row w gb _ _ t (0, 0) hB] at hc
  match off, hc with
  | 0, hc => simp [nvl] at hc
  | 1, hc => simp [nvl] at hc
  | 2, hc => simp [nvl] at hc
  | k + 3, hc => simp [nvl] at hc
def PluP (z E : Int) (w : World) (en : Ending) (w' : World) : Prop := ∃ b S a c, en = .returned (.agg (nvl b a S.length c E).toArray) ∧ S.length ≤ c ∧ S.length ≤ 50000 ∧ AD S ∧ zi b (numv S) = z ∧ Rb w' a S ∧ Below w.heap.size w w'
theorem plus_fin {w wb V : World} {N W c : Nat} {b : Bool} {S : List UInt8} {a : Option Addr} {E z : Int} (hN : w.heap.size = N) (hb : Below N w wb) (q : Below (N + 1 + 1 + 1) wb V) (hBr : Blk V (N + 1 + 1) 61 (nvl false none 0 0 0)) (hr : Rb V a S) (hS : S.length = W) (hc : W ≤ c) (h0 : 1 ≤ W) (h5 : W ≤ 50000) (hA : AD S) (hz : zi b (numv S) = z) :
    Blk (((V.setCell ⟨N + 1 + 1, 0, none⟩ (.bool b)).setCell ⟨N + 1 + 1, 1, none⟩ (.slice a W c)).setCell ⟨N + 1 + 1, 2, none⟩ (.int .i64 E)) (N + 1 + 1) 61 (nvl b a W c E) ∧ PluP z E w (.returned (.agg (nvl b a W c E).toArray)) (((V.setCell ⟨N + 1 + 1, 0, none⟩ (.bool b)).setCell ⟨N + 1 + 1, 1, none⟩ (.slice a W c)).setCell ⟨N + 1 + 1, 2, none⟩ (.int .i64 E)) := by
  have hf := rb_far_num hr hBr (by omega)
  refine ⟨((hBr.set 0 _).set 1 _).set 2 _, b, S, a, c, by rw [hS], by omega, by omega, hA, hz, ((hr.store _ _ _ hf).store _ _ _ hf).store _ _ _ hf, ?_⟩
  rw [hN]
  exact (((hb.trans (q.mono (by omega))).setCell (p := ⟨N + 1 + 1, 0, none⟩) (by show N ≤ N + 1 + 1; omega) _).setCell (p := ⟨N + 1 + 1, 1, none⟩) (by show N ≤ N + 1 + 1; omega) _).setCell (p := ⟨N + 1 + 1, 2, none⟩) (by show N ≤ N + 1 + 1; omega) _
/-- what a call of sumOf or differenceOf leaves -/
def SuQ (M : Nat) (wb : World) (W : Nat) (ok : List UInt8 → Prop) (en : Ending) (w' : World) : Prop := ∃ S a c, en = .returned (.slice a W c) ∧ W ≤ c ∧ S.length = W ∧ AD S ∧ ok S ∧ Rb w' a S ∧ Below M wb w'
/-- what a call of spread leaves, seen from an older world -/
def SpQ (M : Nat) (wb V : World) (S : List UInt8) (W : Nat) (en : Ending) (w' : World) : Prop := ∃ g, en = .returned (.slice (some ⟨g, 0, none⟩) W W) ∧ Rb w' (some ⟨g, 0, none⟩) S ∧ Below M wb w' ∧ ∀ a l, Rb V a l → Rb w' a l
theorem sprQ {M : Nat} {wb V : World} {S : List UInt8} {W : Nat} (hM : M = wb.heap.size) (h : Below M wb V) (hl : S.length = W) {en : Ending} {w' : World} (hs : SprP S V en w') : SpQ M wb V S W en w' := by
  obtain ⟨g, rfl, h1, h2⟩ := hs
  rw [hl]
  exact ⟨g, rfl, h1, h.trans (h2.mono (by rw [hM]; exact h.size)), fun a l hr => hr.go h2⟩
theorem fin_plus (tmps : Array Value) (W : World) (N : Nat) (b : Bool) (a : Option Addr) (n c : Nat) (e : Int) (hp : tmps.getD 4 undef = .pointer (some ⟨N, 0, none⟩)) (h : Blk W N 61 (nvl b a n c e)) :
    (results Tryz.f55 tmps).run Tryz.prog W = .ok (.agg (nvl b a n c e).toArray) W :=
  results_row (p := 4) (ty := 61) rfl tmps W N _ hp (load_num h)
set_option maxRecDepth 100000 in
set_option maxHeartbeats 8000000 in
theorem plus_any (b1 b2 : Bool) (p q : List UInt8) (e1 e2 : Int) (a1 a2 : Option Addr) (k1 k2 : Nat) (w : World) (hAp : AD p) (hAq : AD q) (hc1 : p.length ≤ k1) (hc2 : q.length ≤ k2) (hr1 : Rb w a1 p) (hr2 : Rb w a2 q) (h1 : -10000 ≤ e1) (h2 : e1 ≤ 10000) (h3 : -10000 ≤ e2) (h4 : e2 ≤ 10000) (hl1 : p.length ≤ 5000) (hl2 : q.length ≤ 5000) :
    Calls Tryz.prog 55 #[.agg (nvl b1 a1 p.length k1 e1).toArray, .agg (nvl b2 a2 q.length k2 e2).toArray] w (PluP (zi b1 (numv p) * ((10 ^ (e1 - min e1 e2).toNat : Nat) : Int) + zi b2 (numv q) * ((10 ^ (e2 - min e1 e2).toNat : Nat) : Int)) (min e1 e2) w) := by
  obtain ⟨wa, hwa⟩ : ∃ wa, w.alloc (.cells (nvl b1 a1 p.length k1 e1).toArray 61) = wa := ⟨_, rfl⟩
  obtain ⟨wm, hwm⟩ : ∃ wm, wa.alloc (.cells (nvl b2 a2 q.length k2 e2).toArray 61) = wm := ⟨_, rfl⟩
  obtain ⟨wb, hwb⟩ : ∃ wb, wm.alloc (.cells #[.bool false, .slice none 0 0, .int .i64 0] 61) = wb := ⟨_, rfl⟩
  obtain ⟨N, hN⟩ : ∃ N, w.heap.size = N := ⟨_, rfl⟩
  have s1 : wa.heap.size = N + 1 := by rw [← hwa, ← hN]; simp
  have s2 : wm.heap.size = N + 1 + 1 := by rw [← hwm, ← s1]; simp
  have s3 : Hid (wb.heap.size = N + 1 + 1 + 1) := by show _ = _; rw [← hwb, ← s2]; simp
  have hBn : Hid (Blk wb N 61 (nvl b1 a1 p.length k1 e1)) := by
    rw [← hwb, ← hwm]; refine Blk.old (Blk.old ?_ _) _; rw [← hwa, ← hN]; exact Blk.new w _ _
  have hBm : Hid (Blk wb (N + 1) 61 (nvl b2 a2 q.length k2 e2)) := by
    rw [← hwb]; refine Blk.old ?_ _; rw [← hwm, ← s1]; exact Blk.new wa _ _
  have hBr : Hid (Blk wb (N + 1 + 1) 61 (nvl false none 0 0 0)) := by
    rw [← hwb, ← s2]; exact Blk.new wm _ _
  have hb : Hid (Below N w wb) := by
    rw [← hwb, ← hwm, ← hwa, ← hN]; exact (((Below.refl _ w).alloc (Nat.le_refl _) _).alloc (by simp) _).alloc (by simp; omega) _
  have c0 := hBn.out.cell 0 (.bool b1) rfl
  have d0 := hBm.out.cell 0 (.bool b2) rfl
  have c1 := hBn.out.cell 1 (.slice a1 p.length k1) rfl
  have c2 := hBn.out.cell 2 (.int .i64 e1) rfl
  have d1 := hBm.out.cell 1 (.slice a2 q.length k2) rfl
  have d2 := hBm.out.cell 2 (.int .i64 e2) rfl
  generalize hn : p.length = n at *
  generalize hm : q.length = m at *
  have w1 : IntKind.i64.wrap ((n : Int) + e1) = (n : Int) + e1 := wrapI _ (by omega) (by omega)
  have w2 : IntKind.i64.wrap ((m : Int) + e2) = (m : Int) + e2 := wrapI _ (by omega) (by omega)
  obtain ⟨E, hE⟩ : ∃ E, min e1 e2 = E := ⟨_, rfl⟩
  rw [hE]
  obtain ⟨u, hu⟩ : ∃ u : Nat, e1 - E = (u : Int) := ⟨(e1 - E).toNat, by omega⟩
  obtain ⟨v, hv⟩ : ∃ v : Nat, e2 - E = (v : Int) := ⟨(e2 - E).toNat, by omega⟩
  rw [hu, hv, Int.toNat_natCast, Int.toNat_natCast]
  obtain ⟨W, hW⟩ : ∃ W : Nat, max ((n : Int) + e1) ((m : Int) + e2) - E + 1 = (W : Int) := ⟨(max ((n : Int) + e1) ((m : Int) + e2) - E + 1).toNat, by omega⟩
  have i1 : n + u + 1 ≤ W := by omega
  have i2 : m + v + 1 ≤ W := by omega
  have i3 : W ≤ 50000 := by omega
  have hs1 := Lib.hid (fun V (hV : Rb V a1 p) => spread_any b1 p e1 a1 k1 (by rw [hn]; exact hc1) (by omega) E u W hu (by omega) (by omega) (by omega) (by omega) (by omega) V hV)
  have hs2 := Lib.hid (fun V (hV : Rb V a2 q) => spread_any b2 q e2 a2 k2 (by rw [hm]; exact hc2) (by omega) E v W hv (by omega) (by omega) (by omega) (by omega) (by omega) V hV)
  rw [hn] at hs1
  rw [hm] at hs2
  have hP1 : Hid (∀ V, Below (N + 1 + 1 + 1) wb V → Rb V a1 p) := fun V h => (hr1.go (by rw [hN]; exact hb.out)).below h (by rw [s3.out]; exact Nat.le_refl _)
  have hP2 : Hid (∀ V, Below (N + 1 + 1 + 1) wb V → Rb V a2 q) := fun V h => (hr2.go (by rw [hN]; exact hb.out)).below h (by rw [s3.out]; exact Nat.le_refl _)
  clear hr1 hr2
  generalize hSp : spreadL p W u = Sp at *
  generalize hSq : spreadL q W v = Sq at *
  have hSph := Lib.hid hSp
  have hSqh := Lib.hid hSq
  have hnh := Lib.hid hn
  have hmh := Lib.hid hm
  have lp : Sp.length = W := by rw [← hSp]; exact len_spread _ _ _ (by omega)
  have lq : Sq.length = W := by rw [← hSq]; exact len_spread _ _ _ (by omega)
  have hM : N + 1 + 1 + 1 = wb.heap.size := s3.out.symm
  have HC1 : Hid (∀ V, Below (N + 1 + 1 + 1) wb V → Calls Tryz.prog 61 #[.agg (nvl b1 a1 n k1 e1).toArray, .int .i64 E, .int .i64 (W : Int)] V (SpQ (N + 1 + 1 + 1) wb V Sp W)) := fun V h => (hs1.out V (hP1.out V h)).mono fun en w' hh => sprQ hM h lp hh
  have HC2 : Hid (∀ V, Below (N + 1 + 1 + 1) wb V → Calls Tryz.prog 61 #[.agg (nvl b2 a2 m k2 e2).toArray, .int .i64 E, .int .i64 (W : Int)] V (SpQ (N + 1 + 1 + 1) wb V Sq W)) := fun V h => (hs2.out V (hP2.out V h)).mono fun en w' hh => sprQ hM h lq hh
  have HLn : Hid (∀ V, Below (N + 1 + 1 + 1) wb V → Blk V N 61 (nvl b1 a1 n k1 e1)) := fun V h => hBn.out.go h (by omega)
  have HLm : Hid (∀ V, Below (N + 1 + 1 + 1) wb V → Blk V (N + 1) 61 (nvl b2 a2 m k2 e2)) := fun V h => hBm.out.go h (by omega)
  have HcM : Hid (∀ V, Below (N + 1 + 1 + 1) wb V → V.cell? ⟨N + 1, 0, none⟩ = some (.bool b2) ∧ V.cell? ⟨N + 1, 1, none⟩ = some (.slice a2 m k2) ∧ V.cell? ⟨N + 1, 2, none⟩ = some (.int .i64 e2)) := fun V h => ⟨(HLm.out V h).cell 0 _ rfl, (HLm.out V h).cell 1 _ rfl, (HLm.out V h).cell 2 _ rfl⟩
  have HLr : Hid (∀ V, Below (N + 1 + 1 + 1) wb V → Blk V (N + 1 + 1) 61 (nvl false none 0 0 0)) := fun V h => hBr.out.go h (by omega)
  have aSp : AD Sp := by rw [← hSp]; exact AD_spread hAp _ _
  have aSq : AD Sq := by rw [← hSq]; exact AD_spread hAq _ _
  obtain ⟨z, hz⟩ : ∃ z, zi b1 (numv p) * ((10 ^ u : Nat) : Int) + zi b2 (numv q) * ((10 ^ v : Nat) : Int) = z := ⟨_, rfl⟩
  rw [hz]
  have HSum : Hid (∀ V g g', Below (N + 1 + 1 + 1) wb V → Rb V (some ⟨g, 0, none⟩) Sp → Rb V (some ⟨g', 0, none⟩) Sq → b1 = b2 → Calls Tryz.prog 73 #[.slice (some ⟨g, 0, none⟩) W W, .slice (some ⟨g', 0, none⟩) W W] V (SuQ (N + 1 + 1 + 1) wb W (fun S => zi b1 (numv S) = z))) := fun V g g' h h1 h2 hbb => by
    have := sumOf_any Sp Sq _ _ W W (by omega) (by omega) (by omega) (by omega) aSp aSq V h1 h2
    rw [lp] at this
    refine this.mono ?_
    rintro en w' ⟨S, a, c, cy, rfl, y1, y2, y3, y4, y5, y6, y7⟩
    refine ⟨S, a, c, by rw [y2, lp], by omega, by omega, y3, ?_, y6, h.trans (y7.mono (by rw [hM]; exact h.size))⟩
    rw [← hz, ← hbb]
    rw [lp] at y5
    exact plus_v1 b1 hAp hAq (by omega) (by omega) hSp hSq (by omega) y3 y5
  have HDpq : Hid (∀ V g g', Below (N + 1 + 1 + 1) wb V → Rb V (some ⟨g, 0, none⟩) Sp → Rb V (some ⟨g', 0, none⟩) Sq → b1 ≠ b2 → numv Sq ≤ numv Sp → Calls Tryz.prog 75 #[.slice (some ⟨g, 0, none⟩) W W, .slice (some ⟨g', 0, none⟩) W W] V (SuQ (N + 1 + 1 + 1) wb W (fun S => zi b1 (numv S) = z))) := fun V g g' h h1 h2 hbb hle => by
    have := differenceOf_any Sp Sq _ _ W W (by omega) (by omega) (by omega) (by omega) aSp aSq V h1 h2
    rw [lp] at this
    refine this.mono ?_
    rintro en w' ⟨S, a, c, cy, rfl, y1, y2, y3, y4, y5, y6, y7⟩
    refine ⟨S, a, c, by rw [y2, lp], by omega, by omega, y3, ?_, y6, h.trans (y7.mono (by rw [hM]; exact h.size))⟩
    have hb2 : b2 = !b1 := by cases b1 <;> cases b2 <;> simp at hbb ⊢
    rw [← hz, hb2]
    rw [lp] at y5
    exact plus_v2 b1 hSp hSq (by omega) y3 hle y4 y5
  have HDqp : Hid (∀ V g g', Below (N + 1 + 1 + 1) wb V → Rb V (some ⟨g, 0, none⟩) Sp → Rb V (some ⟨g', 0, none⟩) Sq → b1 ≠ b2 → numv Sp ≤ numv Sq → Calls Tryz.prog 75 #[.slice (some ⟨g', 0, none⟩) W W, .slice (some ⟨g, 0, none⟩) W W] V (SuQ (N + 1 + 1 + 1) wb W (fun S => zi b2 (numv S) = z))) := fun V g g' h h1 h2 hbb hle => by
    have := differenceOf_any Sq Sp _ _ W W (by omega) (by omega) (by omega) (by omega) aSq aSp V h2 h1
    rw [lq] at this
    refine this.mono ?_
    rintro en w' ⟨S, a, c, cy, rfl, y1, y2, y3, y4, y5, y6, y7⟩
    refine ⟨S, a, c, by rw [y2, lq], by omega, by omega, y3, ?_, y6, h.trans (y7.mono (by rw [hM]; exact h.size))⟩
    have hb2 : b1 = !b2 := by cases b1 <;> cases b2 <;> simp at hbb ⊢
    rw [← hz, hb2, Int.add_comm]
    rw [lq] at y5
    exact plus_v2 b2 hSq hSp (by omega) y3 hle y4 y5
  have HCmp : Hid (∀ V g g', Rb V (some ⟨g, 0, none⟩) Sp → Rb V (some ⟨g', 0, none⟩) Sq → Calls Tryz.prog 74 #[.slice (some ⟨g, 0, none⟩) W W, .slice (some ⟨g', 0, none⟩) W W] V fun en w' => en = .returned (.int .i64 (if numv Sp < numv Sq then -1 else if numv Sq < numv Sp then 1 else 0)) ∧ V = w') := fun V g g' h1 h2 => by
    have := cmpD_any Sp Sq _ _ W W (by omega) (by omega) (by omega) (by omega) V h1 h2
    rw [cmpL_num Sp Sq aSp aSq (by omega), lp, lq] at this
    exact this
  have HcA : Hid (∀ V, Below (N + 1 + 1 + 1) wb V → V.cell? ⟨N, 0, none⟩ = some (.bool b1) ∧ V.cell? ⟨N + 1, 0, none⟩ = some (.bool b2)) := fun V h => ⟨(HLn.out V h).cell 0 _ rfl, (HLm.out V h).cell 0 _ rfl⟩
  have HcR : Hid (∀ V, Below (N + 1 + 1 + 1) wb V → V.cell? ⟨N + 1 + 1, 0, none⟩ = some (.bool false) ∧ V.cell? ⟨N + 1 + 1, 1, none⟩ = some (.slice none 0 0) ∧ V.cell? ⟨N + 1 + 1, 2, none⟩ = some (.int .i64 0) ∧ V.frozen? ⟨N + 1 + 1, 0, none⟩ = false ∧ V.frozen? ⟨N + 1 + 1, 1, none⟩ = false ∧ V.frozen? ⟨N + 1 + 1, 2, none⟩ = false) := fun V h => ⟨(HLr.out V h).cell 0 _ rfl, (HLr.out V h).cell 1 _ rfl, (HLr.out V h).cell 2 _ rfl, (HLr.out V h).free 0, (HLr.out V h).free 1, (HLr.out V h).free 2⟩
  have HFin : Hid (∀ V a c S b, Below (N + 1 + 1 + 1) wb V → Rb V a S → S.length = W → W ≤ c → AD S → zi b (numv S) = z → Blk (((V.setCell ⟨N + 1 + 1, 0, none⟩ (.bool b)).setCell ⟨N + 1 + 1, 1, none⟩ (.slice a W c)).setCell ⟨N + 1 + 1, 2, none⟩ (.int .i64 E)) (N + 1 + 1) 61 (nvl b a W c E) ∧ PluP z E w (.returned (.agg (nvl b a W c E).toArray)) (((V.setCell ⟨N + 1 + 1, 0, none⟩ (.bool b)).setCell ⟨N + 1 + 1, 1, none⟩ (.slice a W c)).setCell ⟨N + 1 + 1, 2, none⟩ (.int .i64 E))) := fun V a c S b y1 y2 y3 y4 y5 y6 => plus_fin hN hb.out y1 (HLr.out V y1) y2 y3 y4 (by omega) (by omega) y5 y6
  generalize PluP z E w = Po at *
  clear hSp hSq hn hm hs1 hs2 hP1 hP2 hM lp lq aSp aSq hAp hAq hz
  have q0 : Below (N + 1 + 1 + 1) wb wb.drew := (Below.refl _ wb).drew
  go_enter Tryz.func55, Tryz.ntmps55
  go_wp2_with fail
  clear hwb hwa hwm hN s1 s2 hBn hBm hBr w1 w2 hE hu hv hW i1 i2
  go_region_law (first
    | (go_simp; go_at_call 61; (with_reducible show Calls _ _ #[.agg #[.bool b1, _, _], _, _] _ _); refine (HC1.out _ (by assumption)).mono ?_; rintro en wc ⟨g, rfl, hg, qc, kc⟩; obtain ⟨x0, x1, x2⟩ := HcM.out wc qc)
    | (go_simp; go_at_call 61; (with_reducible show Calls _ _ #[.agg #[.bool b2, _, _], _, _] _ _); refine (HC2.out _ (by assumption)).mono ?_; rintro en wd ⟨g', rfl, hg', qd, kd⟩))
  all_goals
    obtain ⟨y0, y1⟩ := HcA.out wd qd
    have hgp := Lib.hid (kd _ _ hg)
    have hgq := Lib.hid hg'
    have Qd := Lib.hid qd
    clear kd kc qc x0 x1 x2 hg hg' qd q0 c0 c1 c2 d0 d1 d2 HC1 HC2 HLn HLm HLr HcM hb
    have hdr : ∀ a l, Rb wd a l → Rb wd.drew a l := fun a l h => h.go (Below.refl _ wd).drew
    by_cases hbb : b1 = b2
    · have HS := Lib.hid (HSum.out wd.drew g g' Qd.out.drew (hdr _ _ hgp.out) (hdr _ _ hgq.out) hbb)
      have hd : (b1 == b2) = true := by simpa using hbb
      clear HSum HDpq HDqp HCmp hbb hdr hgp hgq Qd
      go_wp2_with fail
      go_region_law (go_simp; go_at_call 73; refine HS.out.mono ?_; rintro en we ⟨S, a, c, rfl, z1, z2, z3, z4, z5, z6⟩; obtain ⟨x0, x1, x2, x3, x4, x5⟩ := HcR.out we z6; obtain ⟨v0, _⟩ := HcA.out we z6)
      all_goals
        obtain ⟨f1, f2⟩ := HFin.out we a c S b1 z6 z5 z2 z1 z3 z4
        have f1h := Lib.hid f1
        have f2h := Lib.hid f2
        clear f1 f2 HFin HcR HcA x0 x1 x2 x3 x4 x5 v0 z1 z2 z3 z4 z5 z6
        go_wp2
        exact bodyPost_ret (v := .agg (nvl b1 a W c E).toArray) (fin_plus _ _ (N + 1 + 1) b1 a W c E rfl f1h.out) rfl f2h.out
    · have hd : (b1 == b2) = false := by simpa using hbb
      have HC := Lib.hid (HCmp.out wd g g' hgp.out hgq.out)
      by_cases hlt : numv Sp < numv Sq
      · rw [if_pos hlt] at HC
        have HS := Lib.hid (HDqp.out wd.drew g g' Qd.out.drew (hdr _ _ hgp.out) (hdr _ _ hgq.out) hbb (Nat.le_of_lt hlt))
        clear HSum HDpq HDqp HCmp hbb hdr hgp hgq Qd hlt
        go_wp2_with fail
        refine HC.out.mono ?_
        rintro en w' ⟨rfl, rfl⟩
        go_wp2_with fail
        go_region_law (go_simp; go_at_call 75; refine HS.out.mono ?_; rintro en we ⟨S, a, c, rfl, z1, z2, z3, z4, z5, z6⟩; obtain ⟨x0, x1, x2, x3, x4, x5⟩ := HcR.out we z6; obtain ⟨_, v0⟩ := HcA.out we z6)
        all_goals
          obtain ⟨f1, f2⟩ := HFin.out we a c S b2 z6 z5 z2 z1 z3 z4
          have f1h := Lib.hid f1
          have f2h := Lib.hid f2
          clear f1 f2 HFin HcR HcA x0 x1 x2 x3 x4 x5 v0 z1 z2 z3 z4 z5 z6
          go_wp2
          exact bodyPost_ret (v := .agg (nvl b2 a W c E).toArray) (fin_plus _ _ (N + 1 + 1) b2 a W c E rfl f1h.out) rfl f2h.out
      · rw [if_neg hlt] at HC
        have HS := Lib.hid (HDpq.out wd.drew g g' Qd.out.drew (hdr _ _ hgp.out) (hdr _ _ hgq.out) hbb (by omega))
        obtain ⟨r, hr⟩ : ∃ r : Int, (if numv Sq < numv Sp then (1 : Int) else 0) = r := ⟨_, rfl⟩
        rw [hr] at HC
        have hr0 : ¬ r < 0 := by rw [← hr]; split <;> omega
        clear HSum HDpq HDqp HCmp hbb hdr hgp hgq Qd hlt hr
        go_wp2_with fail
        refine HC.out.mono ?_
        rintro en w' ⟨rfl, rfl⟩
        go_wp2_with fail
        go_region_law (go_simp; go_at_call 75; refine HS.out.mono ?_; rintro en we ⟨S, a, c, rfl, z1, z2, z3, z4, z5, z6⟩; obtain ⟨x0, x1, x2, x3, x4, x5⟩ := HcR.out we z6; obtain ⟨v0, _⟩ := HcA.out we z6)
        all_goals
          obtain ⟨f1, f2⟩ := HFin.out we a c S b1 z6 z5 z2 z1 z3 z4
          have f1h := Lib.hid f1
          have f2h := Lib.hid f2
          clear f1 f2 HFin HcR HcA x0 x1 x2 x3 x4 x5 v0 z1 z2 z3 z4 z5 z6
          go_wp2
          exact bodyPost_ret (v := .agg (nvl b1 a W c E).toArray) (fin_plus _ _ (N + 1 + 1) b1 a W c E rfl f1h.out) rfl f2h.out
end Go.Proofs.YtpankmaljafnnaaGreatDoor
