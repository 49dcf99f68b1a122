/-
  Helper: the walk of the statement IntegerMultiplies.
-/
import Derived.Test.YtmnopohjnbpinabIRefMul
import Derived.Test.YtmnopohjnbpinabIRefDM
import Derived.Test.YtmnopohjnbpinabIRefCmp
import Derived.Test.YtmnopohjnbpinabIDivPlain
import Derived.Test.YtmnopohjnbpinabIRefOf
import Derived.Test.YtmnopohjnbpinabITextY
namespace Go.Proofs.Ytmnopohjnbpinab
open Go.RowKit
set_option linter.unusedVariables false

/-- a description of an integer, as the reference has it -/
def Iv (z : Int) (a : Option Addr) (c : Nat) : Value := .agg #[.bool (neg z), .slice a (E 10 z.natAbs).length c]
/-- what the calls say in both cases -/
def MulF (x y p ea : Int) (tx ty va : ByteArray) : Prop :=
  (∀ W, Calls Try.prog 17 #[.string tx] W (NumP x W)) ∧ (∀ W, Calls Try.prog 17 #[.string ty] W (NumP y W)) ∧
  (∀ W, Calls Try.prog 26 #[.string tx, .string ty] W fun e w' => e = .returned (.tuple #[.string va, .int .i64 ea]) ∧ Below W.heap.size W w') ∧
  (∀ a b c c' W, Rb W a (E 10 x.natAbs) → Rb W b (E 10 y.natAbs) → Calls Try.prog 28 #[Iv x a c, Iv y b c'] W (NumP p W)) ∧
  (∀ a c W, Rb W a (E 10 p.natAbs) → Calls Try.prog 11 #[.string va, .int .i64 ea, Iv p a c, .int .i64 0] W (TrueP W))
theorem mul_facts (x y : Int) (hx : Sh x) (hy : Sh y) : ∃ (p ea : Int) (va : ByteArray), MulF x y p ea (TB x) (TB y) va := by
  have lx : (E 10 x.natAbs).length ≤ 400 := hx
  have ly : (E 10 y.natAbs).length ≤ 400 := hy
  refine ⟨x * y, oe (x * y), ov (x * y), ?_, ?_, ?_, ?_, ?_⟩
  · exact fun W => refOf_any x hx (TB x) (TB_list x) W
  · exact fun W => refOf_any y hy (TB y) (TB_list y) W
  · exact fun W => MulU x y hx hy W
  · exact fun a b c c' W h1 h2 => refMul_any x y a b c c' W lx ly h1 h2
  · exact fun a c W h1 => agreeU (x * y) a c W h1
def DivF (x y q r : Int) (tx ty tq tr : ByteArray) : Prop :=
  (∀ W, Calls Try.prog 27 #[.string tx, .string ty] W fun e w' => e = .returned (.tuple #[.string tq, .string tr, .int .i64 0]) ∧ Below W.heap.size W w') ∧
  (∀ a b c c' W, Rb W a (E 10 x.natAbs) → Rb W b (E 10 y.natAbs) → Calls Try.prog 29 #[Iv x a c, Iv y b c'] W (DivNP q r W)) ∧
  (∀ a c W, Rb W a (E 10 q.natAbs) → Calls Try.prog 24 #[Iv q a c] W fun e w' => e = .returned (.string tq) ∧ Below W.heap.size W w') ∧
  (∀ a c W, Rb W a (E 10 r.natAbs) → Calls Try.prog 24 #[Iv r a c] W fun e w' => e = .returned (.string tr) ∧ Below W.heap.size W w')
theorem div_facts (x y : Int) (hx : Sh x) (hy : Sh y) (h0 : y ≠ 0) : ∃ (q r : Int) (tq tr : ByteArray), DivF x y q r (TB x) (TB y) tq tr := by
  have hp : 0 < y.natAbs := by omega
  have lx : (E 10 x.natAbs).length ≤ 400 := hx
  have ly : (E 10 y.natAbs).length ≤ 400 := hy
  have lq : (E 10 (qI x y).natAbs).length ≤ 400 := sh_q hx hp
  have lr : (E 10 (rI x y).natAbs).length ≤ 400 := sh_r hy hp
  refine ⟨qI x y, rI x y, TB (qI x y), TB (rI x y), ?_, ?_, ?_, ?_⟩
  · exact fun W => DivMod_yes x y hx hy hp (TB x) (TB y) (TB_list x) (TB_list y) W
  · exact fun a b c c' W h1 h2 => refDivMod_any x y h0 a b c c' W lx ly h1 h2
  · exact fun a c W h1 => refText_any _ a c W h1 (by omega)
  · exact fun a c W h1 => refText_any _ a c W h1 (by omega)

set_option maxRecDepth 100000 in
set_option maxHeartbeats 8000000 in
theorem walkIntegerMultiplies (w : World) (ng0 : Bool) (D0 : ByteArray) (nn0 : Nat) (hD0 : D0.size ≤ maxLen) (hn0 : nn0 < 65536) (ng1 : Bool) (D1 : ByteArray) (nn1 : Nat) (hD1 : D1.size ≤ maxLen) (hn1 : nn1 < 65536) :
    Calls Try.prog 6 #[.agg #[.bool ng0, .string D0, .int .u16 (nn0 : Int)], .agg #[.bool ng1, .string D1, .int .u16 (nn1 : Int)]] w (TrueP w) := by
  have HT0 := Lib.hid (fun W => lawtext_any ng0 D0 nn0 hD0 hn0 W)
  have HT1 := Lib.hid (fun W => lawtext_any ng1 D1 nn1 hD1 hn1 W)
  have HF : Hid (∀ w', Below w.heap.size w w' → TrueP w (.returned (.bool true)) w') := Lib.hid fun w' h => ⟨rfl, h⟩
  clear hD0 hD1 hn0 hn1
  generalize TrueP w = Po at *
  go_enter Try.func6, Try.ntmps6
  go_wp2_with fail
  obtain ⟨hst, hbw, hN⟩ := nb2_start w 36 (.bool ng0) (.string D0) (.int .u16 (nn0 : Int)) (.bool ng1) (.string D1) (.int .u16 (nn1 : Int)) w.heap.size rfl _ rfl
  generalize (w.alloc (.cells #[.bool ng0, .string D0, .int .u16 (nn0 : Int)] 36)).alloc (.cells #[.bool ng1, .string D1, .int .u16 (nn1 : Int)] 36) = W0 at *
  generalize hn0 : w.heap.size = n at *
  have hnh := Lib.hid hn0
  clear hn0
  have hNh := Lib.hid hN
  have hbwh := Lib.hid hbw
  clear hN hbw
  have hS1 : W0.cell? ⟨n, 0, none⟩ = some (Value.bool ng0) ∧ W0.cell? ⟨n, 1, none⟩ = some (Value.string D0) ∧ W0.cell? ⟨n, 2, none⟩ = some (Value.int .u16 (nn0 : Int)) ∧ W0.cell? ⟨n + 1, 0, none⟩ = some (Value.bool ng1) ∧ W0.cell? ⟨n + 1, 1, none⟩ = some (Value.string D1) ∧ W0.cell? ⟨n + 1, 2, none⟩ = some (Value.int .u16 (nn1 : Int)) ∧ Below (n + 1 + 1) W0 W0 := hst
  clear hst
  go_region_held3 (fun w' => w'.cell? ⟨n, 0, none⟩ = some (Value.bool ng0) ∧ w'.cell? ⟨n, 1, none⟩ = some (Value.string D0) ∧ w'.cell? ⟨n, 2, none⟩ = some (Value.int .u16 (nn0 : Int)) ∧ w'.cell? ⟨n + 1, 0, none⟩ = some (Value.bool ng1) ∧ w'.cell? ⟨n + 1, 1, none⟩ = some (Value.string D1) ∧ w'.cell? ⟨n + 1, 2, none⟩ = some (Value.int .u16 (nn1 : Int)) ∧ Below (n + 1 + 1) W0 w')
    (first | (with_reducible assumption) | (with_reducible exact nb2_drew (by assumption)) | (with_reducible exact nb2_keep (by assumption) hNh.out (by assumption)))
    (first | (go_at_call 14; (with_reducible refine (HT0.out _).mono ?_); rintro e w1 ⟨m0, hm0, rfl, hb1⟩) | (go_at_call 14; (with_reducible refine (HT1.out _).mono ?_); rintro e w2 ⟨m1, hm1, rfl, hb2⟩))
  have HB0 : Hid (Below n w w2) := hbwh.out.trans (((Below.refl _ W0).drew.trans hb1).trans (hb2.mono hb1.size) |>.mono (by have := hNh.out; show n ≤ W0.heap.size; omega))
  have hx := sh_zi ng0 m0 hm0
  have hy := sh_zi ng1 m1 hm1
  rename_i hHeld
  clear hHeld hS1 hb1 hb2 hm0 hm1 hNh hbwh HT0 HT1
  generalize zi ng0 m0 = x at *
  generalize zi ng1 m1 = y at *
  obtain ⟨p, ea, va, HAF⟩ := mul_facts x y hx hy
  have HA := Lib.hid HAF
  have HDV := Lib.hid (fun h0 => div_facts x y hx hy h0)
  have HDZ := Lib.hid (fun (h0 : y = 0) W => DivMod_zero x y hx hy h0 (TB x) (TB y) (TB_list x) (TB_list y) W)
  clear HAF hx hy
  generalize TB x = tx at *
  generalize TB y = ty at *
  go_wp2_with fail
  refine (HA.out.1 _).mono ?_
  rintro e w3 ⟨ax, cx, rfl, hrx, hcx, hb3⟩
  have HB3 : Hid (Below n w w3) := Lib.hid (HB0.out.trans (hb3.mono (by have := HB0.out.size; have := hnh.out; omega)))
  have HRX := Lib.hid hrx
  clear hb3 hrx hcx HB0
  go_wp2_with fail
  refine (HA.out.2.1 _).mono ?_
  rintro e w4 ⟨ay, cy, rfl, hry, hcy, hb4⟩
  have HB4 : Hid (Below n w w4) := Lib.hid (HB3.out.trans (hb4.mono (by have := HB3.out.size; have := hnh.out; omega)))
  have HRX4 := Lib.hid (HRX.out.go hb4)
  have HRY := Lib.hid hry
  clear hb4 hry hcy HB3 HRX
  go_wp2_with fail
  obtain ⟨hc4, hbb, hsz⟩ := two_boxes w4 (neg x) (neg y) (.slice ax (E 10 x.natAbs).length cx) (.slice ay (E 10 y.natAbs).length cy) 28 _ rfl
  generalize (w4.alloc (.cells #[.bool (neg x), .slice ax (E 10 x.natAbs).length cx] 28)).alloc (.cells #[.bool (neg y), .slice ay (E 10 y.natAbs).length cy] 28) = W5 at *
  have HX : Hid (∀ W, Below W5.heap.size W5 W → (W.cell? ⟨w4.heap.size, 0, none⟩ = some (.bool (neg x)) ∧ W.cell? ⟨w4.heap.size, 1, none⟩ = some (.slice ax (E 10 x.natAbs).length cx) ∧ W.cell? ⟨w4.heap.size + 1, 0, none⟩ = some (.bool (neg y)) ∧ W.cell? ⟨w4.heap.size + 1, 1, none⟩ = some (.slice ay (E 10 y.natAbs).length cy)) ∧ Rb W ax (E 10 x.natAbs) ∧ Rb W ay (E 10 y.natAbs) ∧ Below n w W) := Lib.hid fun W h =>
    have hb := hbb.trans (h.mono (by omega))
    have hk : ∀ b o, b < W5.heap.size → W.cell? ⟨b, o, none⟩ = W5.cell? ⟨b, o, none⟩ := fun b o hlt => h.cell (p := ⟨b, o, none⟩) hlt
    ⟨⟨(hk _ _ (by omega)).trans hc4.1, (hk _ _ (by omega)).trans hc4.2.1, (hk _ _ (by omega)).trans hc4.2.2.1, (hk _ _ (by omega)).trans hc4.2.2.2⟩, HRX4.out.go hb, HRY.out.go hb, HB4.out.trans (hb.mono (by have := HB4.out.size; have := hnh.out; omega))⟩
  have hK5 : Hid (n ≤ W5.heap.size) := Lib.hid (by have := HB4.out.size; have := hnh.out; omega)
  clear hc4 hbb hsz HRX4 HRY HB4
  generalize w4.heap.size = k0 at *
  obtain ⟨_, _, H3, H5, H6⟩ := HA.out
  have H3 := Lib.hid H3
  have H5 := Lib.hid H5
  have H6 := Lib.hid H6
  clear HA
  refine (H3.out _).mono ?_
  rintro e u1 ⟨rfl, hu1⟩
  have HU1 := Lib.hid hu1
  clear hu1
  by_cases h0 : y = 0
  · have HZ := Lib.hid (HDZ.out h0)
    have hl0 : (E 10 y.natAbs).length = 0 := by rw [h0]; rfl
    unfold Iv at H5 H6
    clear HDV HDZ h0
    generalize neg x = bx at *
    generalize neg y = by' at *
    generalize (E 10 x.natAbs).length = lx at *
    rw [hl0] at HX H5
    go_wp2_with fail
    refine (HZ.out _).mono ?_
    rintro e u2 ⟨rfl, hu2⟩
    have HU2 := Lib.hid (HU1.out.trans (hu2.mono HU1.out.size))
    clear hu2 HZ HU1
    obtain ⟨⟨z0, z1, z2, z3⟩, hrx, hry, _⟩ := HX.out u2 HU2.out
    have H5a := Lib.hid (H5.out ax ay cx cy u2 hrx hry)
    clear hrx hry H5
    go_wp2_with fail
    refine H5a.out.mono ?_
    rintro e u3 ⟨pa, pc, rfl, hp1, hp2, hu3⟩
    have HU3 := Lib.hid (HU2.out.trans (hu3.mono HU2.out.size))
    have H6a := Lib.hid (H6.out pa pc u3 hp1)
    clear hp1 hp2 hu3 HU2 z0 z1 z2 z3 H5a
    go_wp2_with fail
    refine H6a.out.mono ?_
    rintro e u4 ⟨rfl, hu4⟩
    have HU4 := Lib.hid (HU3.out.trans (hu4.mono HU3.out.size))
    clear hu4 HU3 H6a
    obtain ⟨⟨z0, z1, z2, z3⟩, _, _, _⟩ := HX.out u4 HU4.out
    go_wp2_with fail
    refine (awake_any _).mono ?_
    rintro e u5 ⟨rfl, hu5⟩
    have HU5 := Lib.hid (HU4.out.trans (hu5.mono HU4.out.size))
    have hfin := Lib.hid (HF.out u5 (HX.out u5 HU5.out).2.2.2)
    clear hu5 HU4
    go_wp2
    exact hfin.out
  · obtain ⟨q, r, tq, tr, HDF⟩ := HDV.out h0
    have HD := Lib.hid HDF
    have hl0 : 0 < (E 10 y.natAbs).length := len_pos _ (by omega)
    clear HDV HDZ h0 HDF
    obtain ⟨D1', D2, D3, D4⟩ := HD.out
    have D1' := Lib.hid D1'
    have D2 := Lib.hid D2
    have D3 := Lib.hid D3
    have D4 := Lib.hid D4
    clear HD
    unfold Iv at H5 H6 D2 D3 D4
    generalize neg x = bx at *
    generalize neg y = by' at *
    generalize (E 10 x.natAbs).length = lx at *
    generalize (E 10 y.natAbs).length = ly at *
    go_wp2_with fail
    refine (D1'.out _).mono ?_
    rintro e u2 ⟨rfl, hu2⟩
    have HU2 := Lib.hid (HU1.out.trans (hu2.mono HU1.out.size))
    clear hu2 D1' HU1
    obtain ⟨⟨z0, z1, z2, z3⟩, hrx, hry, _⟩ := HX.out u2 HU2.out
    have H5a := Lib.hid (H5.out ax ay cx cy u2 hrx hry)
    clear hrx hry H5
    go_wp2_with fail
    refine H5a.out.mono ?_
    rintro e u3 ⟨pa, pc, rfl, hp1, hp2, hu3⟩
    have HU3 := Lib.hid (HU2.out.trans (hu3.mono HU2.out.size))
    have H6a := Lib.hid (H6.out pa pc u3 hp1)
    clear hp1 hp2 hu3 HU2 z0 z1 z2 z3 H5a
    go_wp2_with fail
    refine H6a.out.mono ?_
    rintro e u4 ⟨rfl, hu4⟩
    have HU4 := Lib.hid (HU3.out.trans (hu4.mono HU3.out.size))
    clear hu4 HU3 H6a
    obtain ⟨⟨z0, z1, z2, z3⟩, hrx, hry, _⟩ := HX.out u4 HU4.out
    have D2a := Lib.hid (D2.out ax ay cx cy u4 hrx hry)
    clear hrx hry D2
    go_wp2_with fail
    refine D2a.out.mono ?_
    rintro e u5 ⟨qa, qc, ra, rc, rfl, hq1, hq2, hr1, hr2, hu5⟩
    have HU5 := Lib.hid (HU4.out.trans (hu5.mono HU4.out.size))
    have hq3 := Lib.hid hq1
    have hr3 := Lib.hid hr1
    clear hu5 HU4 D2a z0 z1 z2 z3 hq1 hq2 hr1 hr2
    go_wp2_with fail
    obtain ⟨hc4, hbb, hsz⟩ := two_boxes u5 (neg q) (neg r) (.slice qa (E 10 q.natAbs).length qc) (.slice ra (E 10 r.natAbs).length rc) 28 _ rfl
    generalize (u5.alloc (.cells #[.bool (neg q), .slice qa (E 10 q.natAbs).length qc] 28)).alloc (.cells #[.bool (neg r), .slice ra (E 10 r.natAbs).length rc] 28) = W8 at *
    have HY : Hid (∀ W, Below W8.heap.size W8 W → (W.cell? ⟨u5.heap.size, 0, none⟩ = some (.bool (neg q)) ∧ W.cell? ⟨u5.heap.size, 1, none⟩ = some (.slice qa (E 10 q.natAbs).length qc) ∧ W.cell? ⟨u5.heap.size + 1, 0, none⟩ = some (.bool (neg r)) ∧ W.cell? ⟨u5.heap.size + 1, 1, none⟩ = some (.slice ra (E 10 r.natAbs).length rc)) ∧ Rb W qa (E 10 q.natAbs) ∧ Rb W ra (E 10 r.natAbs) ∧ Below n w W) := Lib.hid fun W h =>
      have hb := hbb.trans (h.mono (by omega))
      have hk : ∀ b o, b < W8.heap.size → W.cell? ⟨b, o, none⟩ = W8.cell? ⟨b, o, none⟩ := fun b o hlt => h.cell (p := ⟨b, o, none⟩) hlt
      have h5 := (HX.out u5 HU5.out).2.2.2
      ⟨⟨(hk _ _ (by omega)).trans hc4.1, (hk _ _ (by omega)).trans hc4.2.1, (hk _ _ (by omega)).trans hc4.2.2.1, (hk _ _ (by omega)).trans hc4.2.2.2⟩, hq3.out.go hb, hr3.out.go hb, h5.trans (hb.mono (by have := h5.size; have := hnh.out; omega))⟩
    clear hc4 hbb hsz hq3 hr3 HX HU5
    generalize u5.heap.size = k1 at *
    refine (D3.out qa qc _ (HY.out W8 (Below.refl _ _)).2.1).mono ?_
    rintro e u6 ⟨rfl, hu6⟩
    have HU6 := Lib.hid hu6
    obtain ⟨⟨z0, z1, z2, z3⟩, _, hr6, _⟩ := HY.out u6 hu6
    have D4a := Lib.hid (D4.out ra rc u6 hr6)
    clear hu6 hr6 D3 D4
    generalize neg q = bq at *
    generalize neg r = br at *
    generalize (E 10 q.natAbs).length = lq at *
    generalize (E 10 r.natAbs).length = lr at *
    go_wp2_with fail
    refine D4a.out.mono ?_
    rintro e u7 ⟨rfl, hu7⟩
    have HU7 := Lib.hid (HU6.out.trans (hu7.mono HU6.out.size))
    clear hu7 HU6 D4a z0 z1 z2 z3
    go_wp2_with fail
    refine (awake_any _).mono ?_
    rintro e u8 ⟨rfl, hu8⟩
    have HU8 := Lib.hid (HU7.out.trans (hu8.mono HU7.out.size))
    have hfin := Lib.hid (HF.out u8 (HY.out u8 HU8.out).2.2.2)
    clear hu8 HU7
    go_wp2
    exact hfin.out
end Go.Proofs.Ytmnopohjnbpinab
