/-
  Helper: DecimalNear whatever the input.
-/
import Derived.Test.YtpankmaljafnnaaGreatDoorDcDec
namespace Go.Proofs.YtpankmaljafnnaaGreatDoor
open Go.RowKit
set_option linter.unusedVariables false
set_option linter.unusedSimpArgs false

/-- a call that answers a text and an error number, wherever it stands -/
def Txt (W : World) (f : FuncId) (args : Array Value) (r : ByteArray × Int) : Prop := ∀ V, Below W.heap.size W V → Calls Tryz.prog f args V (fun en w' => en = .returned (.tuple #[.string r.1, .int .i64 r.2]) ∧ Below V.heap.size V w')
def Ret (W : World) (f : FuncId) (args : Array Value) (v : Value) : Prop := ∀ V, Below W.heap.size W V → Calls Tryz.prog f args V (fun en w' => en = .returned v ∧ Below V.heap.size V w')
def TrueP (W : World) (en : Ending) (w' : World) : Prop := en = .returned (.bool true) ∧ Below W.heap.size W w'
set_option maxRecDepth 100000 in
set_option maxHeartbeats 4000000 in
theorem near_core (W : World) (a0 : ByteArray) (p : Int) (hp1 : -128 ≤ p) (hp2 : p ≤ 127) (hz : a0.size ≤ 200) (rt mt gt tt ut lt : ByteArray) (e g h c1 c2 : Int) (he : e = 0 ∨ e = 2)
    (HAw : Hid (Ret W 11 #[] (.bool true))) (HV : Hid (Ret W 18 #[.string a0] (.bool true)))
    (HRd : Hid (Txt W 34 #[.string a0, .int .i64 p] (rt, e)))
    (HMi : Hid (e = 0 → Txt W 26 #[.string a0, .string ⟨#[45, 49, 101, 48]⟩] (mt, 0)))
    (HGa : Hid (e = 0 → Txt W 25 #[.string rt, .string mt] (gt, g)))
    (HTw : Hid (e = 0 → Txt W 26 #[.string gt, .string ⟨#[50, 101, 48]⟩] (tt, h)))
    (HUn : Hid (e = 0 → Txt W 22 #[.string ⟨#[49]⟩, .int .i64 (-p)] (ut, 0)))
    (HLe : Hid (e = 0 → Txt W 22 #[.string ⟨#[45, 49]⟩, .int .i64 (-p)] (lt, 0)))
    (HAg : Hid (e = 0 → Txt W 34 #[.string rt, .int .i64 p] (rt, 0)))
    (HC1 : Hid (e = 0 → g = 0 → h = 0 → c1 ≤ 0 ∧ Ret W 27 #[.string tt, .string ut] (.int .i64 c1)))
    (HC2 : Hid (e = 0 → g = 0 → h = 0 → 0 ≤ c2 ∧ Ret W 27 #[.string tt, .string lt] (.int .i64 c2))) :
    Calls Tryz.prog 10 #[.string a0, .int .i8 p] W (TrueP W) := by
  have HF : Hid (∀ w', Below W.heap.size W w' → TrueP W (.returned (.bool true)) w') := fun w' h => ⟨rfl, h⟩
  have hb0 : Hid (Below W.heap.size W W) := Below.refl _ W
  generalize TrueP W = Po at *
  have hzi : ¬ (200 : Int) < (a0.size : Int) := by omega
  have hpw : IntKind.i64.wrap (-p) = -p := wrapI _ (by omega) (by omega)
  have hpw2 : IntKind.i64.wrap p = p := wrapI _ (by omega) (by omega)
  go_enter Tryz.func10, Tryz.ntmps10
  go_wp2_with fail
  refine (HAw.out _ hb0.out).mono ?_
  rintro en w1 ⟨rfl, q⟩
  have b1 := bt hb0 q
  clear q hb0
  go_wp2_with fail
  refine (HV.out _ b1.out).mono ?_
  rintro en w2 ⟨rfl, q⟩
  have b2 := bt b1 q
  clear q b1
  go_wp2_with fail
  refine (HRd.out _ b2.out).mono ?_
  rintro en w3 ⟨rfl, q⟩
  have b3 := bt b2 q
  clear q b2
  rcases he with rfl | rfl
  · have HMi2 := Lib.hid (HMi.out rfl)
    have HGa2 := Lib.hid (HGa.out rfl)
    have HTw2 := Lib.hid (HTw.out rfl)
    have HUn2 := Lib.hid (HUn.out rfl)
    have HLe2 := Lib.hid (HLe.out rfl)
    have HAg2 := Lib.hid (HAg.out rfl)
    clear HMi HGa HTw HUn HLe HAg HAw HV HRd
    go_wp2_with fail
    refine (HMi2.out _ b3.out).mono ?_
    rintro en w4 ⟨rfl, q⟩
    have b4 := bt b3 q
    clear q b3
    go_wp2_with fail
    refine (HGa2.out _ b4.out).mono ?_
    rintro en w5 ⟨rfl, q⟩
    have b5 := bt b4 q
    clear q b4
    go_wp2_with fail
    refine (HTw2.out _ b5.out).mono ?_
    rintro en w6 ⟨rfl, q⟩
    have b6 := bt b5 q
    clear q b5
    go_wp2_with fail
    refine (HUn2.out _ b6.out).mono ?_
    rintro en w7 ⟨rfl, q⟩
    have b7 := bt b6 q
    clear q b6
    go_wp2_with fail
    refine (HLe2.out _ b7.out).mono ?_
    rintro en w8 ⟨rfl, q⟩
    have b8 := bt b7 q
    clear q b7
    go_wp2_with fail
    refine (HAg2.out _ b8.out).mono ?_
    rintro en w9 ⟨rfl, q⟩
    have b9 := bt b8 q
    clear q b8 HMi2 HGa2 HTw2 HUn2 HLe2 HAg2
    have hbq : (rt.toList == rt.toList) = true := by simp
    by_cases hg : g = 0
    · by_cases hh : h = 0
      · obtain ⟨y1, y2⟩ := HC1.out (by first | rfl | trivial) hg hh
        obtain ⟨y3, y4⟩ := HC2.out (by first | rfl | trivial) hg hh
        have Y2 := Lib.hid y2
        have Y4 := Lib.hid y4
        subst hg hh
        clear y2 y4 HC1 HC2
        go_wp2_with fail
        refine (Y2.out _ b9.out).mono ?_
        rintro en w10 ⟨rfl, q⟩
        have b10 := bt b9 q
        clear q b9
        go_wp2_with fail
        refine (Y4.out _ b10.out).mono ?_
        rintro en w11 ⟨rfl, q⟩
        have b11 := bt b10 q
        have hfin := Lib.hid (HF.out _ b11.out)
        clear q b10 HF
        go_wp2
        exact hfin.out
      · have hh2 : (h != 0) = true := by simpa using hh
        have hfin := Lib.hid (HF.out _ b9.out)
        subst hg
        clear HC1 HC2 HF hh
        go_wp2
        exact hfin.out
    · have hg2 : (g != 0) = true := by simpa using hg
      have hfin := Lib.hid (HF.out _ b9.out)
      clear HC1 HC2 HF hg
      go_wp2
      exact hfin.out
  · have hfin := Lib.hid (HF.out _ b3.out)
    clear HMi HGa HTw HUn HLe HAg HAw HV HRd HC1 HC2 HF
    go_wp2
    exact hfin.out

theorem Txt.of {W : World} {f : FuncId} {args : Array Value} {r : ByteArray × Int} (hT : Tabs W) (h : ∀ V, Tabs V → Calls Tryz.prog f args V (TxP r V)) : Txt W f args r := fun V hV => h V (hT.go hV)
theorem Ret.of {W : World} {f : FuncId} {args : Array Value} {v : Value} (hT : Tabs W) (h : ∀ V, Tabs V → Calls Tryz.prog f args V (fun en w' => en = .returned v ∧ Below V.heap.size V w')) : Ret W f args v := fun V hV => h V (hT.go hV)
theorem dec_lit (s : ByteArray) (z x : Int) (h1 : z.natAbs % 10 ≠ 0) (h2 : (body 10 z.natAbs).length ≤ 400) (h3 : -2000 ≤ x) (h4 : x ≤ 2000) (h5 : s = mkB (tD z x)) : Dec s z x := ⟨Cn_lit h1 h2 h3 h4, h5⟩
theorem of_lit (p : ByteArray) (z e : Int) (hz : Sh z) (hpz : p.data.toList = T z) (hC : Cn z e) (w : World) (hT : Tabs w) : Calls Tryz.prog 22 #[.string p, .int .i64 e] w (TxP (mkB (tD z e), 0) w) := by
  have := Of_yes p z e (by have := hC.2.2.1; omega) (by have := hC.2.2.2; omega) hz hpz w hT
  rw [out_canon z e hC] at this
  exact this
set_option maxRecDepth 100000 in
set_option maxHeartbeats 2000000 in
/-- a text that is no decimal, or too long -/
theorem near_no (W : World) (a0 : ByteArray) (p : Int) (hz : a0.size ≤ maxLen) (hc : 200 < a0.size ∨ Hid (a0.size ≤ 200 ∧ Ret W 18 #[.string a0] (.bool false)))
    (HAw : Hid (Ret W 11 #[] (.bool true))) : Calls Tryz.prog 10 #[.string a0, .int .i8 p] W (TrueP W) := by
  have HF : Hid (∀ w', Below W.heap.size W w' → TrueP W (.returned (.bool true)) w') := fun w' h => ⟨rfl, h⟩
  have hb0 : Hid (Below W.heap.size W W) := Below.refl _ W
  generalize TrueP W = Po at *
  unfold maxLen at hz
  rcases hc with hc | hc
  · have hzi : (200 : Int) < (a0.size : Int) := by omega
    go_enter Tryz.func10, Tryz.ntmps10
    go_wp2_with fail
    refine (HAw.out _ hb0.out).mono ?_
    rintro en w1 ⟨rfl, q⟩
    have hfin := Lib.hid (HF.out _ (bt hb0 q).out)
    clear q hb0 HF HAw
    go_wp2
    exact hfin.out
  · obtain ⟨hs, hv⟩ := hc.out
    have HV := Lib.hid hv
    have hzi : ¬ (200 : Int) < (a0.size : Int) := by omega
    clear hc hv
    go_enter Tryz.func10, Tryz.ntmps10
    go_wp2_with fail
    refine (HAw.out _ hb0.out).mono ?_
    rintro en w1 ⟨rfl, q⟩
    have b1 := bt hb0 q
    clear q hb0
    go_wp2_with fail
    refine (HV.out _ b1.out).mono ?_
    rintro en w2 ⟨rfl, q⟩
    have hfin := Lib.hid (HF.out _ (bt b1 q).out)
    clear q b1 HF HAw HV
    go_wp2
    exact hfin.out
theorem walkDecimalNear (W : World) (hT : Tabs W) (a0 : ByteArray) (h0 : a0.size ≤ maxLen) (p : Int) (hp : (Lit.int .i8 p).wf = true) :
    Calls Tryz.prog 10 #[.string a0, .int .i8 p] W (fun e W' => e = .returned (.bool true) ∧ Below W.heap.size W W') := by
  show Calls Tryz.prog 10 #[.string a0, .int .i8 p] W (TrueP W)
  have hpb : -128 ≤ p ∧ p ≤ 127 := by
    have m1 : IntKind.i8.min = -128 := rfl
    have m2 : IntKind.i8.max = 127 := rfl
    simp [Lit.wf, IntKind.wrap, IntKind.bits, IntKind.signed] at hp
    omega
  have HAw : Hid (Ret W 11 #[] (.bool true)) := Ret.of hT fun V hV => awake_any V hV
  by_cases hs : 200 < a0.size
  · exact near_no W a0 p h0 (.inl hs) HAw
  · obtain ⟨ok, z, x, r1, r2, r3⟩ := read_gen a0 (by omega)
    have HV : Ret W 18 #[.string a0] (.bool ok) := Ret.of hT fun V hV => Valid_of a0 ok z x r3 V hV
    cases ok with
    | false => exact near_no W a0 p h0 (.inr ⟨by omega, HV⟩) HAw
    | true =>
      obtain ⟨hC, hl⟩ := r1 rfl
      have hD : Dec a0 z x := ⟨hC, ba_ext _ _ (by rw [hl]; rfl)⟩
      have hx1 := hC.2.2.1
      have hx2 := hC.2.2.2
      have hlen : (body 10 z.natAbs).length ≤ 300 := by
        have h1 : a0.size = (tD z x).length := by rw [hD.2, mkB_size]
        have h2 : (T z).length ≥ (body 10 z.natAbs).length := by unfold T Tb; rw [List.length_append]; omega
        unfold tD at h1
        rw [List.length_append] at h1
        omega
      have HRd := Lib.hid (Txt.of hT fun V hV => round_D hD p (by omega) (by omega) V hV)
      obtain ⟨rt, hrt⟩ : ∃ rt, (outD (rndZ z x (-p)) (rndE x (-p))).1 = rt := ⟨_, rfl⟩
      obtain ⟨e, he⟩ : ∃ e, (outD (rndZ z x (-p)) (rndE x (-p))).2 = e := ⟨_, rfl⟩
      have hre : outD (rndZ z x (-p)) (rndE x (-p)) = (rt, e) := by rw [← hrt, ← he]
      rw [hre] at HRd
      have he2 : e = 0 ∨ e = 2 := by
        rcases out_err (rndZ z x (-p)) (rndE x (-p)) with h | h | h
        · left; rw [← he]; exact h
        · exact absurd h (rnd_short z x (-p) hC hlen)
        · right; rw [← he]; exact h
      have d1 : Dec ⟨#[45, 49, 101, 48]⟩ (-1) 0 := dec_lit _ _ _ (by decide) (by decide +kernel) (by decide) (by decide) (by decide +kernel)
      have d2 : Dec ⟨#[50, 101, 48]⟩ 2 0 := dec_lit _ _ _ (by decide) (by decide +kernel) (by decide) (by decide) (by decide +kernel)
      -- the negative
      have hCm : Cn (-z) x := by
        obtain ⟨c1, c2, c3, c4⟩ := hC
        refine ⟨?_, by rw [Int.natAbs_neg]; exact c2, c3, c4⟩
        rw [Int.natAbs_neg]
        rcases c1 with ⟨h1, h2⟩ | h1
        · exact .inl ⟨by omega, h2⟩
        · exact .inr h1
      have hDm : Dec (mkB (tD (-z) x)) (-z) x := ⟨hCm, rfl⟩
      have HMi : Txt W 26 #[.string a0, .string ⟨#[45, 49, 101, 48]⟩] (mkB (tD (-z) x), 0) := Txt.of hT fun V hV => by
        have := mul_D hD d1 V hV
        rw [show z * -1 = -z by omega, Int.add_zero, out_canon _ _ hCm] at this
        exact this
      -- unit and its negative
      have hC1 : Cn 1 (-p) := Cn_lit (by decide) (by decide +kernel) (by omega) (by omega)
      have hC2 : Cn (-1) (-p) := Cn_lit (by decide) (by decide +kernel) (by omega) (by omega)
      have HUn : Txt W 22 #[.string ⟨#[49]⟩, .int .i64 (-p)] (mkB (tD 1 (-p)), 0) := Txt.of hT fun V hV => of_lit _ 1 (-p) (sh_small 1 (by decide) (by decide)) (by decide +kernel) hC1 V hV
      have HLe : Txt W 22 #[.string ⟨#[45, 49]⟩, .int .i64 (-p)] (mkB (tD (-1) (-p)), 0) := Txt.of hT fun V hV => of_lit _ (-1) (-p) (sh_small (-1) (by decide) (by decide)) (by decide +kernel) hC2 V hV
      have hnear := rnd_near_VV z x (-p) hC (by omega) (by omega)
      have hrx : -5000 ≤ rndE x (-p) := by unfold rndE; split <;> omega
      -- the rounded number
      by_cases he0 : e = 0
      · subst he0
        obtain ⟨z', x', hD', hv'⟩ := out_dec hrx hre
        have HAg : Txt W 34 #[.string rt, .int .i64 p] (rt, 0) := Txt.of hT fun V hV => by
          have := round_D hD' p (by omega) (by omega) V hV
          rw [rnd_twice z x (-p) hC (by omega) (by omega) z' x' hD'.1 hv', ← hD'.2] at this
          exact this
        obtain ⟨gt, hgt⟩ : ∃ gt, (oV (VV z' x' + VV (-z) x)).1 = gt := ⟨_, rfl⟩
        obtain ⟨g, hg⟩ : ∃ g, (oV (VV z' x' + VV (-z) x)).2 = g := ⟨_, rfl⟩
        have hgg : oV (VV z' x' + VV (-z) x) = (gt, g) := by rw [← hgt, ← hg]
        have HGa : Txt W 25 #[.string rt, .string (mkB (tD (-z) x))] (gt, g) := Txt.of hT fun V hV => by
          have := add_D hD' hDm V hV
          rw [hgg] at this; exact this
        by_cases hg0 : g = 0
        · subst hg0
          obtain ⟨zg, xg, hDg, hvg⟩ := oV_dec hgg
          have hxg1 := hDg.1.2.2.1
          obtain ⟨tt, htt⟩ : ∃ tt, (outD (zg * 2) (xg + 0)).1 = tt := ⟨_, rfl⟩
          obtain ⟨h, hh⟩ : ∃ h, (outD (zg * 2) (xg + 0)).2 = h := ⟨_, rfl⟩
          have hth : outD (zg * 2) (xg + 0) = (tt, h) := by rw [← htt, ← hh]
          have HTw : Txt W 26 #[.string gt, .string ⟨#[50, 101, 48]⟩] (tt, h) := Txt.of hT fun V hV => by
            have := mul_D hDg d2 V hV
            rw [hth] at this; exact this
          by_cases hh0 : h = 0
          · subst hh0
            obtain ⟨zt, xt, hDt, hvt⟩ := out_dec (by omega) hth
            have e1 : VV zt xt = 2 * (VV (rndZ z x (-p)) (rndE x (-p)) - VV z x) := by
              rw [hvt, Int.add_zero]
              have : VV (zg * 2) xg = VV zg xg * 2 := by unfold VV vD; rw [Int.mul_assoc, Int.mul_comm 2, ← Int.mul_assoc]
              rw [this, hvg, hv', VV_neg]; omega
            have e2 : VV (-1) (-p) = - VV 1 (-p) := VV_neg 1 (-p)
            refine near_core W a0 p hpb.1 hpb.2 (by omega) rt _ gt tt _ _ 0 0 0 (sgI (VV zt xt - VV 1 (-p))) (sgI (VV zt xt - VV (-1) (-p))) (.inl rfl) HAw HV HRd (fun _ => HMi) (fun _ => HGa) (fun _ => HTw) (fun _ => HUn) (fun _ => HLe) (fun _ => HAg) (fun _ _ _ => ⟨sgI_le (by rw [e1]; omega), Ret.of hT fun V hV => cmp_D hDt ⟨hC1, rfl⟩ V hV⟩) (fun _ _ _ => ⟨sgI_ge (by rw [e1, e2]; omega), Ret.of hT fun V hV => cmp_D hDt ⟨hC2, rfl⟩ V hV⟩)
          · exact near_core W a0 p hpb.1 hpb.2 (by omega) rt _ gt tt _ _ 0 0 h 0 0 (.inl rfl) HAw HV HRd (fun _ => HMi) (fun _ => HGa) (fun _ => HTw) (fun _ => HUn) (fun _ => HLe) (fun _ => HAg) (fun _ _ h2 => absurd h2 hh0) (fun _ _ h2 => absurd h2 hh0)
        · have hge : gt = ⟨#[]⟩ := by
            have := out_empty (VV z' x' + VV (-z) x) (-(5000 : Nat) : Int) (by show (oV _).2 ≠ 0; rw [hg]; exact hg0)
            rw [← hgt]; exact this
          have HTw : Txt W 26 #[.string gt, .string ⟨#[50, 101, 48]⟩] (⟨#[]⟩, 3) := Txt.of hT fun V hV => by
            rw [hge]; exact mul_none d2 V hV
          exact near_core W a0 p hpb.1 hpb.2 (by omega) rt _ gt _ _ _ 0 g 3 0 0 (.inl rfl) HAw HV HRd (fun _ => HMi) (fun _ => HGa) (fun _ => HTw) (fun _ => HUn) (fun _ => HLe) (fun _ => HAg) (fun _ h2 _ => absurd h2 hg0) (fun _ h2 _ => absurd h2 hg0)
      · exact near_core W a0 p hpb.1 hpb.2 (by omega) rt ⟨#[]⟩ ⟨#[]⟩ ⟨#[]⟩ ⟨#[]⟩ ⟨#[]⟩ e 0 0 0 0 he2 HAw HV HRd (fun h => absurd h he0) (fun h => absurd h he0) (fun h => absurd h he0) (fun h => absurd h he0) (fun h => absurd h he0) (fun h => absurd h he0) (fun h => absurd h he0) (fun h => absurd h he0)
end Go.Proofs.YtpankmaljafnnaaGreatDoor
