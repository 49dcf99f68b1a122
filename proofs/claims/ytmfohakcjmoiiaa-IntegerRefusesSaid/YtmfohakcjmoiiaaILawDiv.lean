/-
  Helper: the walk of the statement IntegerDivides.
-/
import Derived.Test.YtmfohakcjmoiiaaILawRings
import Derived.Test.YtmfohakcjmoiiaaIDivPlain
namespace Go.Proofs.Ytmfohakcjmoiiaa
open Go.RowKit
set_option linter.unusedVariables false

def SumP (t : ByteArray) (w : World) (e : Ending) (w' : World) : Prop := e = .returned (.tuple #[.string t, .int .i64 0]) ∧ Below w.heap.size w w'
def DmQ (t u : ByteArray) (w : World) (e : Ending) (w' : World) : Prop := e = .returned (.tuple #[.string t, .string u, .int .i64 0]) ∧ Below w.heap.size w w'
theorem toList_TB (z : Int) : (TB z).toList = T z := by rw [Lib.toList_data]; exact TB_list z
theorem div_cmp (x y : Int) (h0 : 0 < y.natAbs) : ∃ k c d : Int, cmpZ (rI x y) 0 = k ∧ cmpZ y 0 = c ∧ cmpZ (rI x y + -y) 0 = d ∧ ((k = 0 ∧ c = 1 ∧ d = -1) ∨ (k = 0 ∧ c = -1 ∧ d = 1) ∨ (k = 1 ∧ c = 1 ∧ d = -1) ∨ (k = -1 ∧ c = -1 ∧ d = 1)) := by
  refine ⟨_, _, _, rfl, rfl, rfl, ?_⟩
  have hd := cmp_d x y h0
  have hc : cmpZ y 0 = 1 ∨ cmpZ y 0 = -1 := by
    unfold cmpZ
    by_cases hy : y < 0
    · right; rw [if_pos hy]
    · left; rw [if_neg hy, if_neg (by omega)]
  have hr := cmp_r x y h0
  omega

set_option maxRecDepth 100000 in
set_option maxHeartbeats 8000000 in
theorem walkIntegerDivides (w : World) (ng0 : Bool) (D0 : ByteArray) (nn0 : Nat) (hD0 : D0.size ≤ maxLen) (hn0 : nn0 < 65536) (ng1 : Bool) (D1 : ByteArray) (nn1 : Nat) (hD1 : D1.size ≤ maxLen) (hn1 : nn1 < 65536) :
    Calls Try.prog 8 #[.agg #[.bool ng0, .string D0, .int .u16 (nn0 : Int)], .agg #[.bool ng1, .string D1, .int .u16 (nn1 : Int)]] w (TrueP w) := by
  have HT0 := Lib.hid (fun W => lawtext_any ng0 D0 nn0 hD0 hn0 W)
  have HT1 := Lib.hid (fun W => lawtext_any ng1 D1 nn1 hD1 hn1 W)
  have HF : Hid (∀ w', Below w.heap.size w w' → TrueP w (.returned (.bool true)) w') := Lib.hid fun w' h => ⟨rfl, h⟩
  clear hD0 hD1 hn0 hn1
  generalize TrueP w = Po at *
  go_enter Try.func8, Try.ntmps8
  go_wp2_with fail
  obtain ⟨hst, hbw, hN⟩ := nb2_start w 36 (.bool ng0) (.string D0) (.int .u16 (nn0 : Int)) (.bool ng1) (.string D1) (.int .u16 (nn1 : Int)) w.heap.size rfl _ rfl
  generalize (w.alloc (.cells #[.bool ng0, .string D0, .int .u16 (nn0 : Int)] 36)).alloc (.cells #[.bool ng1, .string D1, .int .u16 (nn1 : Int)] 36) = W0 at *
  generalize hn0 : w.heap.size = n at *
  have hnh := Lib.hid hn0
  clear hn0
  have hNh := Lib.hid hN
  have hbwh := Lib.hid hbw
  clear hN hbw
  have hS1 : W0.cell? ⟨n, 0, none⟩ = some (Value.bool ng0) ∧ W0.cell? ⟨n, 1, none⟩ = some (Value.string D0) ∧ W0.cell? ⟨n, 2, none⟩ = some (Value.int .u16 (nn0 : Int)) ∧ W0.cell? ⟨n + 1, 0, none⟩ = some (Value.bool ng1) ∧ W0.cell? ⟨n + 1, 1, none⟩ = some (Value.string D1) ∧ W0.cell? ⟨n + 1, 2, none⟩ = some (Value.int .u16 (nn1 : Int)) ∧ Below (n + 1 + 1) W0 W0 := hst
  clear hst
  go_region_held3 (fun w' => w'.cell? ⟨n, 0, none⟩ = some (Value.bool ng0) ∧ w'.cell? ⟨n, 1, none⟩ = some (Value.string D0) ∧ w'.cell? ⟨n, 2, none⟩ = some (Value.int .u16 (nn0 : Int)) ∧ w'.cell? ⟨n + 1, 0, none⟩ = some (Value.bool ng1) ∧ w'.cell? ⟨n + 1, 1, none⟩ = some (Value.string D1) ∧ w'.cell? ⟨n + 1, 2, none⟩ = some (Value.int .u16 (nn1 : Int)) ∧ Below (n + 1 + 1) W0 w')
    (first | (with_reducible assumption) | (with_reducible exact nb2_drew (by assumption)) | (with_reducible exact nb2_keep (by assumption) hNh.out (by assumption)))
    (first | (go_at_call 17; (with_reducible refine (HT0.out _).mono ?_); rintro e w1 ⟨m0, hm0, rfl, hb1⟩) | (go_at_call 17; (with_reducible refine (HT1.out _).mono ?_); rintro e w2 ⟨m1, hm1, rfl, hb2⟩))
  have HB0 : Hid (Below n w w2) := hbwh.out.trans (((Below.refl _ W0).drew.trans hb1).trans (hb2.mono hb1.size) |>.mono (by have := hNh.out; show n ≤ W0.heap.size; omega))
  have hx := sh_zi ng0 m0 hm0
  have hy := sh_zi ng1 m1 hm1
  rename_i hHeld
  clear hHeld hS1 hb1 hb2 hm0 hm1 hNh hbwh HT0 HT1
  generalize zi ng0 m0 = x at *
  generalize zi ng1 m1 = y at *
  by_cases h0 : y = 0
  · have HD := Lib.hid (fun W => DivMod_zero x y hx hy h0 (TB x) (TB y) (TB_list x) (TB_list y) W)
    rw [h0, TB_zero] at HD ⊢
    clear h0 hx hy
    generalize TB x = tx at *
    go_wp2_with fail
    refine (HD.out _).mono ?_
    rintro e u1 ⟨rfl, hu1⟩
    have HU1 : Hid (Below n w u1) := HB0.out.trans (hu1.mono (by have := HB0.out.size; have := hnh.out; omega))
    clear hu1
    go_wp2_with fail
    refine (awake_any _).mono ?_
    rintro e u2 ⟨rfl, hu2⟩
    have HU2 : Hid (Below n w u2) := HU1.out.trans (hu2.mono (by have := HU1.out.size; have := hnh.out; omega))
    clear hu2
    have hfin := Lib.hid (HF.out _ HU2.out)
    go_wp2
    exact hfin.out
  · have hp : 0 < y.natAbs := by omega
    obtain ⟨k, c, d, hk, hc, hd, hkc⟩ := div_cmp x y hp
    have hq := sh_q hx hp
    have hr := sh_r (x := x) hy hp
    have hdd := sh_d (x := x) hy hp
    have HD : Hid (∀ W, Calls Try.prog 30 #[.string (TB x), .string (TB y)] W (DmQ (TB (qI x y)) (TB (rI x y)) W)) := Lib.hid (fun W => DivMod_yes x y hx hy hp (TB x) (TB y) (TB_list x) (TB_list y) W)
    have HCr := Lib.hid (fun W => Cmp_yes (rI x y) 0 hr sh_zero (TB (rI x y)) ⟨#[48]⟩ (TB_list _) (by decide) W)
    have HCy := Lib.hid (fun W => Cmp_yes y 0 hy sh_zero (TB y) ⟨#[48]⟩ (TB_list _) (by decide) W)
    have HCd := Lib.hid (fun W => Cmp_yes (rI x y + -y) 0 hdd sh_zero (TB (rI x y + -y)) ⟨#[48]⟩ (TB_list _) (by decide) W)
    rw [hk] at HCr
    rw [hc] at HCy
    rw [hd] at HCd
    have HS : Hid (∀ W, Calls Try.prog 22 #[.string (TB (rI x y)), .string (TB y)] W (SumP (TB (rI x y + -y)) W)) := Lib.hid fun W => (SubU (rI x y) y hr hy W).mono fun e w' h => ⟨h.1.trans (by rw [ov_yes hdd, oe_yes hdd]), h.2⟩
    have HM := Lib.hid (fun W => MulU (qI x y) y hq hy W)
    have HA : Hid (Sh (qI x y * y) → ∀ W, Calls Try.prog 21 #[.string (TB (qI x y * y)), .string (TB (rI x y))] W (SumP (TB x) W)) := Lib.hid fun hs W => (AddU (qI x y * y) (rI x y) hs hr W).mono fun e w' h => by
      rw [div_back x y hp] at h
      exact ⟨h.1.trans (by rw [ov_yes hx, oe_yes hx]), h.2⟩
    have HL := Lib.hid (fun h => div_long hx hy hp h)
    have hne : ((TB y).toList == [48]) = false := by
      rw [toList_TB, beq_eq_false_iff_ne]
      intro g
      exact h0 (T_inj (g.trans (by decide)))
    clear hk hc hd hq hr hdd hx hy hp h0
    generalize TB x = tx at *
    generalize TB y = ty at *
    generalize TB (rI x y + -y) = td at *
    generalize rI x y = r at *
    generalize qI x y * y = pr at *
    generalize qI x y = q at *
    generalize TB r = tr at *
    generalize TB q = tq at *
    rcases hkc with ⟨rfl, rfl, rfl⟩ | ⟨rfl, rfl, rfl⟩ | ⟨rfl, rfl, rfl⟩ | ⟨rfl, rfl, rfl⟩
    · go_wp2_with fail
      refine (HD.out _).mono ?_
      rintro e u1 ⟨rfl, hu1⟩
      have HU1 : Hid (Below n w u1) := HB0.out.trans (hu1.mono (by have := HB0.out.size; have := hnh.out; omega))
      clear hu1
      go_wp2_with fail
      refine (HCr.out _).mono ?_
      rintro e u2 ⟨rfl, hu2⟩
      have HU2 : Hid (Below n w u2) := HU1.out.trans (hu2.mono (by have := HU1.out.size; have := hnh.out; omega))
      clear hu2
      go_wp2_with fail
      refine (HS.out _).mono ?_
      rintro e u3 ⟨rfl, hu3⟩
      have HU3 : Hid (Below n w u3) := HU2.out.trans (hu3.mono (by have := HU2.out.size; have := hnh.out; omega))
      clear hu3
      go_wp2_with fail
      refine (HCd.out _).mono ?_
      rintro e u4 ⟨rfl, hu4⟩
      have HU4 : Hid (Below n w u4) := HU3.out.trans (hu4.mono (by have := HU3.out.size; have := hnh.out; omega))
      clear hu4
      go_wp2_with fail
      refine (HCy.out _).mono ?_
      rintro e u5 ⟨rfl, hu5⟩
      have HU5 : Hid (Below n w u5) := HU4.out.trans (hu5.mono (by have := HU4.out.size; have := hnh.out; omega))
      clear hu5
      go_wp2_with fail
      refine (HM.out _).mono ?_
      rintro e u6 ⟨rfl, hu6⟩
      have HU6 : Hid (Below n w u6) := HU5.out.trans (hu6.mono (by have := HU5.out.size; have := hnh.out; omega))
      clear hu6
      by_cases hp : Sh pr
      · have ha := Lib.hid (HA.out hp)
        have h1v := Lib.hid (ov_yes hp)
        have h1e := Lib.hid (oe_yes hp)
        rw [h1v.out, h1e.out]
        clear hp
        go_wp2_with fail
        refine (ha.out _).mono ?_
        rintro e u7 ⟨rfl, hu7⟩
        have HU7 : Hid (Below n w u7) := HU6.out.trans (hu7.mono (by have := HU6.out.size; have := hnh.out; omega))
        clear hu7
        go_wp2_with fail
        refine (awake_any _).mono ?_
        rintro e u8 ⟨rfl, hu8⟩
        have HU8 : Hid (Below n w u8) := HU7.out.trans (hu8.mono (by have := HU7.out.size; have := hnh.out; omega))
        clear hu8
        have hfin := Lib.hid (HF.out _ HU8.out)
        go_wp2
        exact hfin.out
      · have h4 : (400 : Int) ≤ (tx.size : Int) := by have := HL.out hp; omega
        have h1e := Lib.hid (oe_no hp)
        rw [h1e.out]
        clear hp
        go_wp2_with fail
        refine (awake_any _).mono ?_
        rintro e u7 ⟨rfl, hu7⟩
        have HU7 : Hid (Below n w u7) := HU6.out.trans (hu7.mono (by have := HU6.out.size; have := hnh.out; omega))
        clear hu7
        have hfin := Lib.hid (HF.out _ HU7.out)
        go_wp2
        exact hfin.out
    · go_wp2_with fail
      refine (HD.out _).mono ?_
      rintro e u1 ⟨rfl, hu1⟩
      have HU1 : Hid (Below n w u1) := HB0.out.trans (hu1.mono (by have := HB0.out.size; have := hnh.out; omega))
      clear hu1
      go_wp2_with fail
      refine (HCr.out _).mono ?_
      rintro e u2 ⟨rfl, hu2⟩
      have HU2 : Hid (Below n w u2) := HU1.out.trans (hu2.mono (by have := HU1.out.size; have := hnh.out; omega))
      clear hu2
      go_wp2_with fail
      refine (HS.out _).mono ?_
      rintro e u3 ⟨rfl, hu3⟩
      have HU3 : Hid (Below n w u3) := HU2.out.trans (hu3.mono (by have := HU2.out.size; have := hnh.out; omega))
      clear hu3
      go_wp2_with fail
      refine (HCd.out _).mono ?_
      rintro e u4 ⟨rfl, hu4⟩
      have HU4 : Hid (Below n w u4) := HU3.out.trans (hu4.mono (by have := HU3.out.size; have := hnh.out; omega))
      clear hu4
      go_wp2_with fail
      refine (HCy.out _).mono ?_
      rintro e u5 ⟨rfl, hu5⟩
      have HU5 : Hid (Below n w u5) := HU4.out.trans (hu5.mono (by have := HU4.out.size; have := hnh.out; omega))
      clear hu5
      go_wp2_with fail
      refine (HM.out _).mono ?_
      rintro e u6 ⟨rfl, hu6⟩
      have HU6 : Hid (Below n w u6) := HU5.out.trans (hu6.mono (by have := HU5.out.size; have := hnh.out; omega))
      clear hu6
      by_cases hp : Sh pr
      · have ha := Lib.hid (HA.out hp)
        have h1v := Lib.hid (ov_yes hp)
        have h1e := Lib.hid (oe_yes hp)
        rw [h1v.out, h1e.out]
        clear hp
        go_wp2_with fail
        refine (ha.out _).mono ?_
        rintro e u7 ⟨rfl, hu7⟩
        have HU7 : Hid (Below n w u7) := HU6.out.trans (hu7.mono (by have := HU6.out.size; have := hnh.out; omega))
        clear hu7
        go_wp2_with fail
        refine (awake_any _).mono ?_
        rintro e u8 ⟨rfl, hu8⟩
        have HU8 : Hid (Below n w u8) := HU7.out.trans (hu8.mono (by have := HU7.out.size; have := hnh.out; omega))
        clear hu8
        have hfin := Lib.hid (HF.out _ HU8.out)
        go_wp2
        exact hfin.out
      · have h4 : (400 : Int) ≤ (tx.size : Int) := by have := HL.out hp; omega
        have h1e := Lib.hid (oe_no hp)
        rw [h1e.out]
        clear hp
        go_wp2_with fail
        refine (awake_any _).mono ?_
        rintro e u7 ⟨rfl, hu7⟩
        have HU7 : Hid (Below n w u7) := HU6.out.trans (hu7.mono (by have := HU6.out.size; have := hnh.out; omega))
        clear hu7
        have hfin := Lib.hid (HF.out _ HU7.out)
        go_wp2
        exact hfin.out
    · go_wp2_with fail
      refine (HD.out _).mono ?_
      rintro e u1 ⟨rfl, hu1⟩
      have HU1 : Hid (Below n w u1) := HB0.out.trans (hu1.mono (by have := HB0.out.size; have := hnh.out; omega))
      clear hu1
      go_wp2_with fail
      refine (HCr.out _).mono ?_
      rintro e u2 ⟨rfl, hu2⟩
      have HU2 : Hid (Below n w u2) := HU1.out.trans (hu2.mono (by have := HU1.out.size; have := hnh.out; omega))
      clear hu2
      go_wp2_with fail
      refine (HCy.out _).mono ?_
      rintro e u3 ⟨rfl, hu3⟩
      have HU3 : Hid (Below n w u3) := HU2.out.trans (hu3.mono (by have := HU2.out.size; have := hnh.out; omega))
      clear hu3
      go_wp2_with fail
      refine (HS.out _).mono ?_
      rintro e u4 ⟨rfl, hu4⟩
      have HU4 : Hid (Below n w u4) := HU3.out.trans (hu4.mono (by have := HU3.out.size; have := hnh.out; omega))
      clear hu4
      go_wp2_with fail
      refine (HCd.out _).mono ?_
      rintro e u5 ⟨rfl, hu5⟩
      have HU5 : Hid (Below n w u5) := HU4.out.trans (hu5.mono (by have := HU4.out.size; have := hnh.out; omega))
      clear hu5
      go_wp2_with fail
      refine (HCy.out _).mono ?_
      rintro e u6 ⟨rfl, hu6⟩
      have HU6 : Hid (Below n w u6) := HU5.out.trans (hu6.mono (by have := HU5.out.size; have := hnh.out; omega))
      clear hu6
      go_wp2_with fail
      refine (HM.out _).mono ?_
      rintro e u7 ⟨rfl, hu7⟩
      have HU7 : Hid (Below n w u7) := HU6.out.trans (hu7.mono (by have := HU6.out.size; have := hnh.out; omega))
      clear hu7
      by_cases hp : Sh pr
      · have ha := Lib.hid (HA.out hp)
        have h1v := Lib.hid (ov_yes hp)
        have h1e := Lib.hid (oe_yes hp)
        rw [h1v.out, h1e.out]
        clear hp
        go_wp2_with fail
        refine (ha.out _).mono ?_
        rintro e u8 ⟨rfl, hu8⟩
        have HU8 : Hid (Below n w u8) := HU7.out.trans (hu8.mono (by have := HU7.out.size; have := hnh.out; omega))
        clear hu8
        go_wp2_with fail
        refine (awake_any _).mono ?_
        rintro e u9 ⟨rfl, hu9⟩
        have HU9 : Hid (Below n w u9) := HU8.out.trans (hu9.mono (by have := HU8.out.size; have := hnh.out; omega))
        clear hu9
        have hfin := Lib.hid (HF.out _ HU9.out)
        go_wp2
        exact hfin.out
      · have h4 : (400 : Int) ≤ (tx.size : Int) := by have := HL.out hp; omega
        have h1e := Lib.hid (oe_no hp)
        rw [h1e.out]
        clear hp
        go_wp2_with fail
        refine (awake_any _).mono ?_
        rintro e u8 ⟨rfl, hu8⟩
        have HU8 : Hid (Below n w u8) := HU7.out.trans (hu8.mono (by have := HU7.out.size; have := hnh.out; omega))
        clear hu8
        have hfin := Lib.hid (HF.out _ HU8.out)
        go_wp2
        exact hfin.out
    · go_wp2_with fail
      refine (HD.out _).mono ?_
      rintro e u1 ⟨rfl, hu1⟩
      have HU1 : Hid (Below n w u1) := HB0.out.trans (hu1.mono (by have := HB0.out.size; have := hnh.out; omega))
      clear hu1
      go_wp2_with fail
      refine (HCr.out _).mono ?_
      rintro e u2 ⟨rfl, hu2⟩
      have HU2 : Hid (Below n w u2) := HU1.out.trans (hu2.mono (by have := HU1.out.size; have := hnh.out; omega))
      clear hu2
      go_wp2_with fail
      refine (HCy.out _).mono ?_
      rintro e u3 ⟨rfl, hu3⟩
      have HU3 : Hid (Below n w u3) := HU2.out.trans (hu3.mono (by have := HU2.out.size; have := hnh.out; omega))
      clear hu3
      go_wp2_with fail
      refine (HS.out _).mono ?_
      rintro e u4 ⟨rfl, hu4⟩
      have HU4 : Hid (Below n w u4) := HU3.out.trans (hu4.mono (by have := HU3.out.size; have := hnh.out; omega))
      clear hu4
      go_wp2_with fail
      refine (HCd.out _).mono ?_
      rintro e u5 ⟨rfl, hu5⟩
      have HU5 : Hid (Below n w u5) := HU4.out.trans (hu5.mono (by have := HU4.out.size; have := hnh.out; omega))
      clear hu5
      go_wp2_with fail
      refine (HCy.out _).mono ?_
      rintro e u6 ⟨rfl, hu6⟩
      have HU6 : Hid (Below n w u6) := HU5.out.trans (hu6.mono (by have := HU5.out.size; have := hnh.out; omega))
      clear hu6
      go_wp2_with fail
      refine (HM.out _).mono ?_
      rintro e u7 ⟨rfl, hu7⟩
      have HU7 : Hid (Below n w u7) := HU6.out.trans (hu7.mono (by have := HU6.out.size; have := hnh.out; omega))
      clear hu7
      by_cases hp : Sh pr
      · have ha := Lib.hid (HA.out hp)
        have h1v := Lib.hid (ov_yes hp)
        have h1e := Lib.hid (oe_yes hp)
        rw [h1v.out, h1e.out]
        clear hp
        go_wp2_with fail
        refine (ha.out _).mono ?_
        rintro e u8 ⟨rfl, hu8⟩
        have HU8 : Hid (Below n w u8) := HU7.out.trans (hu8.mono (by have := HU7.out.size; have := hnh.out; omega))
        clear hu8
        go_wp2_with fail
        refine (awake_any _).mono ?_
        rintro e u9 ⟨rfl, hu9⟩
        have HU9 : Hid (Below n w u9) := HU8.out.trans (hu9.mono (by have := HU8.out.size; have := hnh.out; omega))
        clear hu9
        have hfin := Lib.hid (HF.out _ HU9.out)
        go_wp2
        exact hfin.out
      · have h4 : (400 : Int) ≤ (tx.size : Int) := by have := HL.out hp; omega
        have h1e := Lib.hid (oe_no hp)
        rw [h1e.out]
        clear hp
        go_wp2_with fail
        refine (awake_any _).mono ?_
        rintro e u8 ⟨rfl, hu8⟩
        have HU8 : Hid (Below n w u8) := HU7.out.trans (hu8.mono (by have := HU7.out.size; have := hnh.out; omega))
        clear hu8
        have hfin := Lib.hid (HF.out _ HU8.out)
        go_wp2
        exact hfin.out
end Go.Proofs.Ytmfohakcjmoiiaa
