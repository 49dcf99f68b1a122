/-
  Helper: the walk of number.rounded.
-/
import Derived.Test.YtpankmaljafnnaaGreatDoorDcRup
namespace Go.Proofs.YtpankmaljafnnaaGreatDoor
open Go.RowKit
set_option linter.unusedVariables false
set_option linter.unusedSimpArgs false

theorem rnd_fin {w V : World} {N c : Nat} {b : Bool} {S : List UInt8} {a : Option Addr} {E z : Int} (hN : w.heap.size = N) (q : Below N w V) (hBr : Blk V (N + 1) 61 (nvl false none 0 0 0)) (hr : Rb V a S) (hc : S.length ≤ c) (h5 : S.length ≤ 50000) (hA : AD S) (hz : zi b (numv S) = z) :
    Blk (((V.setCell ⟨N + 1, 0, none⟩ (.bool b)).setCell ⟨N + 1, 1, none⟩ (.slice a S.length c)).setCell ⟨N + 1, 2, none⟩ (.int .i64 E)) (N + 1) 61 (nvl b a S.length c E) ∧ PluP z E w (.returned (.agg (nvl b a S.length c E).toArray)) (((V.setCell ⟨N + 1, 0, none⟩ (.bool b)).setCell ⟨N + 1, 1, none⟩ (.slice a S.length c)).setCell ⟨N + 1, 2, none⟩ (.int .i64 E)) := by
  refine ⟨((hBr.set 0 _).set 1 _).set 2 _, b, S, a, c, rfl, hc, h5, hA, hz, ?_, ?_⟩
  · rcases Nat.eq_zero_or_pos S.length with h0 | h0
    · exact .inl (List.eq_nil_of_length_eq_zero h0)
    · have hf := rb_far_num hr hBr h0
      exact ((hr.store _ _ _ hf).store _ _ _ hf).store _ _ _ hf
  · rw [hN]
    exact ((q.setCell (p := ⟨N + 1, 0, none⟩) (by show N ≤ N + 1; omega) _).setCell (p := ⟨N + 1, 1, none⟩) (by show N ≤ N + 1; omega) _).setCell (p := ⟨N + 1, 2, none⟩) (by show N ≤ N + 1; omega) _
theorem fin_rnd (tmps : Array Value) (W : World) (N : Nat) (b : Bool) (a : Option Addr) (n c : Nat) (e : Int) (hp : tmps.getD 4 undef = .pointer (some ⟨N, 0, none⟩)) (h : Blk W N 61 (nvl b a n c e)) :
    (results Tryz.f60 tmps).run Tryz.prog W = .ok (.agg (nvl b a n c e).toArray) W :=
  results_row (p := 4) (ty := 61) rfl tmps W N _ hp (load_num h)
/-- whether rounding at place k (which may be negative) goes up -/
def rupV (l : List UInt8) (k : Int) : Bool := if k < 0 then false else rupL l k.toNat
theorem rup_all (b : Bool) (l : List UInt8) (e : Int) (a : Option Addr) (cap : Nat) (k : Int) (hk : k < l.length) (hcap : l.length ≤ cap) (hl : l.length ≤ 100000) (hA : AD l) (w : World) (hr : Rb w a l) :
    Calls Tryz.prog 79 #[.agg (nvl b a l.length cap e).toArray, .int .i64 k] w (fun en w' => en = .returned (.bool (rupV l k)) ∧ Below w.heap.size w w') := by
  unfold rupV
  by_cases h : k < 0
  · rw [if_pos h]; exact rup_neg b l e a cap k h w
  · rw [if_neg h]
    obtain ⟨m, rfl⟩ : ∃ m : Nat, k = (m : Int) := ⟨k.toNat, by omega⟩
    exact rup_any b l e a cap m (by omega) hcap hl hA w hr
set_option maxRecDepth 100000 in
set_option maxHeartbeats 3000000 in
theorem rnd_any (b : Bool) (l : List UInt8) (e : Int) (a : Option Addr) (cap : Nat) (ex : Int) (hcap : l.length ≤ cap) (hl : l.length ≤ 5000) (hA : AD l) (h1 : -10000 ≤ e) (h2 : e ≤ 10000) (h3 : -10000 ≤ ex) (h4 : ex ≤ 10000) (hlt : e < ex) (w : World) (hr : Rb w a l) :
    Calls Tryz.prog 60 #[.agg (nvl b a l.length cap e).toArray, .int .i64 ex] w (PluP (zi b (numv (l.take (max ((l.length : Int) - (ex - e)) 0).toNat) + (if rupV l ((l.length : Int) - (ex - e)) then 1 else 0))) ex w) := by
  obtain ⟨wa, hwa⟩ : ∃ wa, w.alloc (.cells (nvl b a l.length cap e).toArray 61) = wa := ⟨_, rfl⟩
  obtain ⟨wb, hwb⟩ : ∃ wb, wa.alloc (.cells #[.bool false, .slice none 0 0, .int .i64 0] 61) = wb := ⟨_, rfl⟩
  obtain ⟨N, hN⟩ : ∃ N, w.heap.size = N := ⟨_, rfl⟩
  have s1 : wa.heap.size = N + 1 := by rw [← hwa, ← hN]; simp
  have s2 : wb.heap.size = N + 1 + 1 := by rw [← hwb, ← s1]; simp
  have hBn : Hid (Blk wb N 61 (nvl b a l.length cap e)) := by
    rw [← hwb]; refine Blk.old ?_ _; rw [← hwa, ← hN]; exact Blk.new w _ _
  have hBr : Hid (Blk wb (N + 1) 61 (nvl false none 0 0 0)) := by
    rw [← hwb, ← s1]; exact Blk.new wa _ _
  have hb : Hid (Below N w wb) := by
    rw [← hwb, ← hwa, ← hN]; exact ((Below.refl _ w).alloc (Nat.le_refl _) _).alloc (by simp) _
  have c0 := hBn.out.cell 0 (.bool b) rfl
  have c1 := hBn.out.cell 1 (.slice a l.length cap) rfl
  have c2 := hBn.out.cell 2 (.int .i64 e) rfl
  generalize hn : l.length = n at *
  have w1 : IntKind.i64.wrap (ex - e) = ex - e := wrapI _ (by omega) (by omega)
  have w2 : IntKind.i64.wrap ((n : Int) - (ex - e)) = (n : Int) - (ex - e) := wrapI _ (by omega) (by omega)
  have hle : ¬ ex ≤ e := by omega
  obtain ⟨k, hk⟩ : ∃ k : Int, (n : Int) - (ex - e) = k := ⟨_, rfl⟩
  obtain ⟨K, hK⟩ : ∃ K : Nat, max k 0 = (K : Int) := ⟨(max k 0).toNat, by omega⟩
  rw [hk, hK, Int.toNat_natCast]
  have hkn : k < (n : Int) := by omega
  have hKn : K ≤ n := by omega
  have x1 : (0 : Int) ≤ (K : Int) := by omega
  have x2 : (K : Int) ≤ (cap : Int) := by omega
  obtain ⟨Z, hZ0⟩ : ∃ Z, zi b (numv (l.take K) + (if rupV l k then 1 else 0)) = Z := ⟨_, rfl⟩
  rw [hZ0]
  have hZ := Lib.hid hZ0
  obtain ⟨Po, hPo0⟩ : ∃ Po, PluP Z ex w = Po := ⟨_, rfl⟩
  rw [hPo0]
  have hPo := Lib.hid hPo0
  clear hZ0 hPo0
  go_enter Tryz.func60, Tryz.ntmps60
  go_upto_region 4 with fail
  clear hwb hwa
  go_cut [6] (fun s6 wx => s6 = .pointer (some ⟨N + 1 + 1, 0, none⟩) ∧ Hid (Blk wx (N + 1 + 1) 61 (nvl b a K cap ex)) ∧ Hid (Below (N + 1 + 1) wb wx))
  case first =>
    obtain ⟨wx, hwx⟩ : ∃ wx, wb.drew.alloc (.cells #[.bool false, .slice none 0 0, .int .i64 0] 61) = wx := ⟨_, rfl⟩
    have qx : Below (N + 1 + 1) wb wx := by rw [← hwx]; exact (Below.refl _ wb).drew.alloc (by show N + 1 + 1 ≤ wb.heap.size; omega) _
    have hBx : Blk wx (N + 1 + 1) 61 (nvl false none 0 0 0) := by rw [← hwx, ← s2]; exact Blk.new wb.drew _ _
    have y0 : wx.cell? ⟨N, 0, none⟩ = some (.bool b) := (hBn.out.go qx (by omega)).cell 0 _ rfl
    have y1 : wx.cell? ⟨N, 1, none⟩ = some (.slice a n cap) := (hBn.out.go qx (by omega)).cell 1 _ rfl
    have z0 := hBx.cell 0 (.bool false) rfl
    have z1 := hBx.cell 1 (.slice none 0 0) rfl
    have z2 := hBx.cell 2 (.int .i64 0) rfl
    have f0 := hBx.free 0
    have f1 := hBx.free 1
    have f2 := hBx.free 2
    have hfin : Hid (Blk (((wx.setCell ⟨N + 1 + 1, 0, none⟩ (.bool b)).setCell ⟨N + 1 + 1, 1, none⟩ (.slice a K cap)).setCell ⟨N + 1 + 1, 2, none⟩ (.int .i64 ex)) (N + 1 + 1) 61 (nvl b a K cap ex) ∧ Below (N + 1 + 1) wb (((wx.setCell ⟨N + 1 + 1, 0, none⟩ (.bool b)).setCell ⟨N + 1 + 1, 1, none⟩ (.slice a K cap)).setCell ⟨N + 1 + 1, 2, none⟩ (.int .i64 ex))) :=
      ⟨((hBx.set 0 _).set 1 _).set 2 _, ((qx.setCell (p := ⟨N + 1 + 1, 0, none⟩) (Nat.le_refl _) _).setCell (p := ⟨N + 1 + 1, 1, none⟩) (Nat.le_refl _) _).setCell (p := ⟨N + 1 + 1, 2, none⟩) (Nat.le_refl _) _⟩
    clear qx hBx hBn hBr hb w1 w2 hN s1 hn
    go_region
    all_goals
      go_wp2_with fail
      go_meet
      exact ⟨rfl, hfin.out.1, hfin.out.2⟩
  case rest =>
    obtain ⟨rfl, hBx0, hbx0⟩ := hcut
    obtain ⟨M, hM⟩ : ∃ M, wc.heap.size = M := ⟨_, rfl⟩
    have hMN : N + 1 + 1 < M := by rw [← hM]; exact hBx0.out.lt
    have hqc : Hid (Below N w wc) := hb.out.trans (hbx0.out.mono (by omega))
    have hrc : Rb wc a l := hr.go (by rw [hN]; exact hqc.out)
    have HRU := rup_all b l e a cap k (by omega) (by omega) (by omega) hA wc hrc
    rw [hn, hM] at HRU
    have HRU := Lib.hid HRU
    have hRc : Hid (∀ V, Below M wc V → Rb V a l) := fun V h => hrc.below h (by rw [hM]; exact Nat.le_refl _)
    have hBnc := hBn.out.go hbx0.out (by omega)
    have hBrc := hBr.out.go hbx0.out (by omega)
    have HcN : Hid (∀ V, Below M wc V → V.cell? ⟨N, 0, none⟩ = some (.bool b) ∧ V.cell? ⟨N, 1, none⟩ = some (.slice a n cap) ∧ V.cell? ⟨N, 2, none⟩ = some (.int .i64 e)) := fun V h => ⟨(hBnc.go h (by omega)).cell 0 _ rfl, (hBnc.go h (by omega)).cell 1 _ rfl, (hBnc.go h (by omega)).cell 2 _ rfl⟩
    have HcX : Hid (∀ V, Below M wc V → V.cell? ⟨N + 1 + 1, 0, none⟩ = some (.bool b) ∧ V.cell? ⟨N + 1 + 1, 1, none⟩ = some (.slice a K cap) ∧ V.cell? ⟨N + 1 + 1, 2, none⟩ = some (.int .i64 ex)) := fun V h => ⟨(hBx0.out.go h (by omega)).cell 0 _ rfl, (hBx0.out.go h (by omega)).cell 1 _ rfl, (hBx0.out.go h (by omega)).cell 2 _ rfl⟩
    have HcR : Hid (∀ V, Below M wc V → V.cell? ⟨N + 1, 0, none⟩ = some (.bool false) ∧ V.cell? ⟨N + 1, 1, none⟩ = some (.slice none 0 0) ∧ V.cell? ⟨N + 1, 2, none⟩ = some (.int .i64 0) ∧ V.frozen? ⟨N + 1, 0, none⟩ = false ∧ V.frozen? ⟨N + 1, 1, none⟩ = false ∧ V.frozen? ⟨N + 1, 2, none⟩ = false) := fun V h => ⟨(hBrc.go h (by omega)).cell 0 _ rfl, (hBrc.go h (by omega)).cell 1 _ rfl, (hBrc.go h (by omega)).cell 2 _ rfl, (hBrc.go h (by omega)).free 0, (hBrc.go h (by omega)).free 1, (hBrc.go h (by omega)).free 2⟩
    have aK : AD (l.take K) := fun c hc => hA c (List.mem_of_mem_take hc)
    have lK : (l.take K).length = K := by rw [List.length_take]; omega
    obtain ⟨c0', c1', c2'⟩ := HcN.out wc (Below.refl _ wc)
    have HFin : Hid (∀ V b2 S a2 c2 m, Below M wc V → Rb V a2 S → S.length = m → m ≤ c2 → m ≤ 50000 → AD S → zi b2 (numv S) = Z → Blk (((V.setCell ⟨N + 1, 0, none⟩ (.bool b2)).setCell ⟨N + 1, 1, none⟩ (.slice a2 m c2)).setCell ⟨N + 1, 2, none⟩ (.int .i64 ex)) (N + 1) 61 (nvl b2 a2 m c2 ex) ∧ Po (.returned (.agg (nvl b2 a2 m c2 ex).toArray)) (((V.setCell ⟨N + 1, 0, none⟩ (.bool b2)).setCell ⟨N + 1, 1, none⟩ (.slice a2 m c2)).setCell ⟨N + 1, 2, none⟩ (.int .i64 ex))) := fun V b2 S a2 c2 m y1 y2 y0 y3 y4 y5 y6 => by
      subst y0
      have := rnd_fin (c := c2) (E := ex) hN (hqc.out.trans (y1.mono (by omega))) (hBrc.go y1 (by omega)) y2 y3 y4 y5 y6
      rw [hPo.out] at this
      exact this
    have e48 : numv [49] = 1 := rfl
    have hrK : Hid (∀ V, Below M wc V → Rb V a (l.take K)) := fun V h => (hRc.out V h).take K
    by_cases hru : rupV l k = true
    · rw [hru] at HRU
      have hz2 : zi b (numv (l.take K)) * ((10 ^ (ex - min ex ex).toNat : Nat) : Int) + zi b (numv [49]) * ((10 ^ (ex - min ex ex).toNat : Nat) : Int) = Z := by
        rw [Int.min_self, Int.sub_self, ← hZ.out, hru, if_pos rfl, zi_sum]
        have : (10 ^ (0 : Int).toNat : Nat) = 1 := rfl
        rw [this]
        simp [e48]
      have a1 : AD [49] := by intro c hc; simp at hc; subst hc; decide
      have HPlus : Hid (∀ V a' c, Below M wc V → 1 ≤ c → Rb V a' [49] → Calls Tryz.prog 55 #[.agg (nvl b a K cap ex).toArray, .agg (nvl b a' 1 c ex).toArray] V (fun en w' => ∃ b2 S a2 c2 m, en = .returned (.agg #[.bool b2, .slice a2 m c2, .int .i64 ex]) ∧ S.length = m ∧ m ≤ c2 ∧ m ≤ 50000 ∧ AD S ∧ zi b2 (numv S) = Z ∧ Rb w' a2 S ∧ Below M wc w')) := fun V a' c h h1 h2 => by
        have := plus_any b b (l.take K) [49] ex ex a a' cap c V aK a1 (by omega) h1 (hrK.out V h) h2 (by omega) (by omega) (by omega) (by omega) (by omega) (by decide)
        rw [lK, hz2, Int.min_self] at this
        refine this.mono ?_
        rintro en w' ⟨b2, S, a2, c2, rfl, y1, y2, y3, y4, y5, y6⟩
        exact ⟨b2, S, a2, c2, _, rfl, rfl, y1, y2, y3, y4, y5, h.trans (y6.mono (by rw [← hM]; exact h.size))⟩
      have HNew0 : Hid (∀ V g, Below M wc V → g < V.heap.size → V.cell? ⟨g, 0, none⟩ = some (.string ⟨#[49]⟩) → Calls Tryz.prog 53 #[.bool b, .int .i64 ex, .slice (some ⟨g, 0, none⟩) 1 1] V (fun en w' => ∃ a' c, en = .returned (.agg #[.bool b, .slice a' 1 c, .int .i64 ex]) ∧ 1 ≤ c ∧ Rb w' a' [49] ∧ Below M wc w')) := fun V g h hg hc => by
        have := new_any b ex [⟨#[49]⟩] g 1 V hg (by decide) (by decide) (fun i t hi => by
          match i, hi with
          | 0, hi => simp at hi; subst hi; exact hc) (by decide)
        refine this.mono ?_
        rintro en w' ⟨a', c, rfl, y1, y2, y3⟩
        exact ⟨a', c, rfl, y1, y2, h.trans (y3.mono (by rw [← hM]; exact h.size))⟩
      clear hz2 a1 hZ hPo hrK hRc aK lK hru hqc hrc hBnc hBrc hBn hBr hb hBx0 hbx0 e48
      go_wp2_with fail
      refine HRU.out.mono ?_
      rintro en w5 ⟨rfl, q5⟩
      clear HRU c0' c1' c2'
      obtain ⟨G, hG⟩ : ∃ G, w5.heap.size = G := ⟨_, rfl⟩
      obtain ⟨wy, hwy⟩ : ∃ wy, w5.drew.alloc (.cells #[.string ⟨#[49]⟩] 9) = wy := ⟨_, rfl⟩
      have qd : Below M wc w5.drew := q5.drew
      have qy : Below M wc wy := by rw [← hwy]; exact qd.alloc (by rw [← hM]; exact qd.size) _
      have hgy : G < wy.heap.size := by
        rw [← hwy, ← hG]; show w5.heap.size < (w5.drew.alloc _).heap.size; simp
      have hcy : wy.cell? ⟨G, 0, none⟩ = some (.string ⟨#[49]⟩) := by rw [← hwy, ← hG]; exact cell_of_row _ _ 0 _ _ (0, 0) (heap_alloc_new w5.drew _)
      have HNew := Lib.hid (HNew0.out wy G qy hgy hcy)
      obtain ⟨x0, x1', x2'⟩ := HcX.out w5 q5
      obtain ⟨x3, x4, x5⟩ := HcX.out wy qy
      obtain ⟨y0, _⟩ := HcN.out w5 q5
      obtain ⟨y1, _⟩ := HcN.out wy qy
      clear HNew0 q5 qd qy hgy hcy HcN hM
      go_wp2_with fail
      go_region_law (first
        | (go_simp; go_at_call 53; refine HNew.out.mono ?_; rintro en w6 ⟨a', c', rfl, g1, g2, g3⟩; obtain ⟨x6, x7, x8⟩ := HcX.out w6 g3)
        | (go_simp; go_at_call 55; refine (HPlus.out _ _ _ (by assumption) (by assumption) (by assumption)).mono ?_; rintro en w7 ⟨b2, S, a2, c2, m, rfl, t1, t2, t3, t4, t5, t6, t7⟩; obtain ⟨v0, v1, v2, v3, v4, v5⟩ := HcR.out w7 t7))
      all_goals
        obtain ⟨f1, f2⟩ := HFin.out w7 b2 S a2 c2 m t7 t6 t1 t2 t3 t4 t5
        have f1h := Lib.hid f1
        have f2h := Lib.hid f2
        clear f1 f2 HFin HcR HcX HPlus HNew t1 t2 t3 t4 t5 t6 t7 v0 v1 v2 v3 v4 v5
        go_wp2
        exact bodyPost_ret (v := .agg (nvl b2 a2 m c2 ex).toArray) (fin_rnd _ _ (N + 1) b2 a2 m c2 ex rfl f1h.out) rfl f2h.out
    · have hru : rupV l k = false := by simpa using hru
      rw [hru] at HRU
      have hz2 : zi b (numv (l.take K)) = Z := by rw [← hZ.out, hru]; simp
      have HF2 : Hid (∀ V, Below M wc V → Blk (((V.setCell ⟨N + 1, 0, none⟩ (.bool b)).setCell ⟨N + 1, 1, none⟩ (.slice a K cap)).setCell ⟨N + 1, 2, none⟩ (.int .i64 ex)) (N + 1) 61 (nvl b a K cap ex) ∧ Po (.returned (.agg (nvl b a K cap ex).toArray)) (((V.setCell ⟨N + 1, 0, none⟩ (.bool b)).setCell ⟨N + 1, 1, none⟩ (.slice a K cap)).setCell ⟨N + 1, 2, none⟩ (.int .i64 ex))) := fun V h => HFin.out V b (l.take K) a cap K h (hrK.out V h) lK (by omega) (by omega) aK hz2
      clear hz2 hZ hPo hrK hRc aK lK hru hqc hrc hBnc hBrc hBn hBr hb hBx0 hbx0 e48 HFin
      go_wp2_with fail
      refine HRU.out.mono ?_
      rintro en w5 ⟨rfl, q5⟩
      obtain ⟨x0, x1', x2'⟩ := HcX.out w5 q5
      obtain ⟨v0, v1, v2, v3, v4, v5⟩ := HcR.out w5 q5
      obtain ⟨f1, f2⟩ := HF2.out w5 q5
      have f1h := Lib.hid f1
      have f2h := Lib.hid f2
      clear f1 f2 HF2 HRU HcX HcR HcN q5 c0' c1' c2'
      go_wp2
      exact bodyPost_ret (v := .agg (nvl b a K cap ex).toArray) (fin_rnd _ _ (N + 1) b a K cap ex rfl f1h.out) rfl f2h.out
end Go.Proofs.YtpankmaljafnnaaGreatDoor
