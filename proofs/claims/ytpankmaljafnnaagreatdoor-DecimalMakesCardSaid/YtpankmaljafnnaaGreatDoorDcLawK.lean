/-
  Helper: DecimalMakes whatever the input.
-/
import Derived.Test.YtpankmaljafnnaaGreatDoorDcRf6
namespace Go.Proofs.YtpankmaljafnnaaGreatDoor
open Go.RowKit
set_option linter.unusedVariables false
set_option linter.unusedSimpArgs false

theorem nZ_len (z : Int) (hz : Sh z) : (dgs (nZ z).natAbs).length ≤ 400 := by
  unfold nZ
  by_cases h : z = 0
  · rw [if_pos h]; decide
  · have hm := mant_spec z.natAbs (by omega)
    rw [if_neg h, zi_abs, dgs_len _ (by omega)]
    exact Nat.le_trans (body_le_len (mant_le z.natAbs (by omega))) ((sh_body z).1 hz)
set_option maxRecDepth 100000 in
set_option maxHeartbeats 4000000 in
theorem makes_yes (W : World) (hT : Tabs W) (s : ByteArray) (e : Int) (he1 : -9223372036854775808 ≤ e) (he2 : e ≤ 9223372036854775807) (hs : s.size ≤ 600) (z : Int) (hz : Sh z) (hl : s.data.toList = T z) : Calls Tryz.prog 5 #[.string s, .int .i64 e] W (TrueP W) := by
  have HAw : Hid (Ret W 11 #[] (.bool true)) := Ret.of hT fun V hV => awake_any V hV
  have HOf : Hid (Txt W 22 #[.string s, .int .i64 e] (outD z e)) := Txt.of hT fun V hV => Of_yes s z e he1 he2 hz hl V hV
  have hv : vldB s.data.toList = true := vldB_yes _ (by rw [hl]; exact vld_T z hz)
  have HWh : Hid (∀ V, Calls Tryz.prog 23 #[.string s] V (fun en w' => en = .returned (.bool true) ∧ Below V.heap.size V w')) := fun V => by
    have := whole_any s (by omega) V
    rw [hv] at this; exact this
  have HRo := Lib.hid (fun V => rof_any s z e hz hl V)
  unfold RD at HRo
  rw [← out_clamp z e hz, out_ref] at HOf
  have hnl := nZ_len z hz
  have hcl : -100000 ≤ clE e ∧ clE e ≤ 100000 := by unfold clE; omega
  have hlz : (body 10 z.natAbs).length ≤ 400 := (sh_body z).1 hz
  have hxr : -200000 ≤ nEx z (clE e) ∧ nEx z (clE e) ≤ 200000 := by
    unfold nEx
    split
    · omega
    · rename_i h
      have hm := mant_spec z.natAbs (by omega)
      have h2 := (trimR_body (mant z.natAbs) (tz z.natAbs) hm.2).2
      rw [← hm.1] at h2
      omega
  have HLm := Lib.hid (fun a c V => limit_any (neg (nZ z)) a (dgs (nZ z).natAbs).length c (nEx z (clE e)) (by omega) V)
  have HSh := Lib.hid (fun a c V (hr : Ib V a (dgs (nZ z).natAbs)) => rshow_any (neg (nZ z)) (dgs (nZ z).natAbs) (dgs_le _) (by omega) a c (nEx z (clE e)) (by omega) (by omega) V hr)
  simp only [show_tD] at HSh
  have hli : limF (dgs (nZ z).natAbs).length (nEx z (clE e)) = 0 ∨ limF (dgs (nZ z).natAbs).length (nEx z (clE e)) = 2 := by
    unfold limF
    rw [if_neg (by omega)]
    split
    · exact .inr rfl
    · exact .inl rfl
  have HF : Hid (∀ w', Below W.heap.size W w' → TrueP W (.returned (.bool true)) w') := fun w' h => ⟨rfl, h⟩
  have hb0 : Hid (Below W.heap.size W W) := Below.refl _ W
  generalize TrueP W = Po at *
  generalize limF (dgs (nZ z).natAbs).length (nEx z (clE e)) = lim at *
  generalize mkB (tD (nZ z) (nEx z (clE e))) = R at *
  generalize nEx z (clE e) = x9 at *
  have hn9 : Hid ((dgs (nZ z).natAbs).length ≤ 400) := hnl
  generalize dgs (nZ z).natAbs = D at *
  generalize neg (nZ z) = b9 at *
  have hzi : ¬ (600 : Int) < (s.size : Int) := by omega
  clear hv hl hz hlz hcl hxr hnl
  obtain ⟨d, hd⟩ : ∃ d, (if lim = 0 then (R, 0) else ((⟨#[]⟩ : ByteArray), lim)) = d := ⟨_, rfl⟩
  rw [hd] at HOf
  obtain ⟨d1, d2⟩ := d
  go_enter Tryz.func5, Tryz.ntmps5
  go_wp2_with fail
  refine (HAw.out _ hb0.out).mono ?_
  rintro en w1 ⟨rfl, q⟩
  have b1 := bt hb0 q
  clear q hb0
  go_wp2_with fail
  refine (HOf.out _ b1.out).mono ?_
  rintro en w2 ⟨rfl, q⟩
  have b2 := bt b1 q
  clear q b1
  go_wp2_with fail
  refine (HWh.out _).mono ?_
  rintro en w3 ⟨rfl, q⟩
  have b3 := bt b2 q
  clear q b2
  go_wp2_with fail
  refine (HRo.out _).mono ?_
  rintro en w4 ⟨a4, c4, rfl, hc4, hi4, q, _⟩
  have b4 := bt b3 q
  obtain ⟨N, wb, hN, hwb, _, hbw⟩ := dbox w4 false none 0 0 0
  have B0 : Hid (Blk wb N 28 (nvl false none 0 0 0)) := by rw [← hwb, ← hN]; exact Blk.new w4 _ _
  have hzD : ∀ W, (zeroValue 28).run Tryz.prog W = .ok (.agg (nvl false none 0 0 0).toArray) W := fun W => by kernel_rfl
  obtain ⟨wx, hwx⟩ : ∃ wx, wb.setRow N (nvl b9 a4 D.length c4 x9).toArray = wx := ⟨_, rfl⟩
  have B1 : Blk wx N 28 (nvl b9 a4 D.length c4 x9) := by rw [← hwx]; exact B0.out.row _
  have hbx : Below w4.heap.size w4 wx := by rw [← hwx]; exact below_row hbw.out (Nat.le_of_eq hN) _
  have b5 := bt b4 hbx
  have hi5 := Lib.hid (hi4.go hbx)
  have HX : Hid (∀ V, Below wx.heap.size wx V → V.cell? ⟨N, 0, none⟩ = some (.bool b9) ∧ V.cell? ⟨N, 1, none⟩ = some (.slice a4 D.length c4) ∧ V.cell? ⟨N, 2, none⟩ = some (.int .i64 x9)) := fun V h => by
    have y := B1.go h B1.lt
    exact ⟨y.cell 0 _ rfl, y.cell 1 _ rfl, y.cell 2 _ rfl⟩
  obtain ⟨c0, c1, c2⟩ := HX.out wx (Below.refl _ _)
  have HLm2 := Lib.hid (fun V => HLm.out a4 c4 V)
  have HSh2 : Hid (∀ V, Below wx.heap.size wx V → Calls Tryz.prog 15 #[.agg (nvl b9 a4 D.length c4 x9).toArray] V (fun en w' => en = .returned (.string R) ∧ Below V.heap.size V w')) := fun V h => HSh.out a4 c4 V (hi5.out.go h)
  clear q b3 b4 hc4 hi4 hi5 HLm HSh HAw HOf HWh HRo hbw hn9 hbx B1
  generalize D.length = n9 at *
  go_wp2_with (refine wpList_store_row rfl 28 (.tmp 7) (.tmp 30) rfl N _ rfl rfl 28 _ B0.out (by rw [size_D]; rfl) (nvl_z _ b9 _ a4 _ n9 _ c4 _ x9) (nvl_one b9 a4 n9 c4 x9) ?_; rw [hwx])
  refine (HLm2.out _).mono ?_
  rintro en w6 ⟨rfl, q⟩
  have b6 := bt b5 q
  obtain ⟨e0, e1, e2⟩ := HX.out w6 q
  have HSh3 := Lib.hid (HSh2.out w6 q)
  clear q b5 HLm2 HSh2 HX c0 c1 c2 hzD B0 hwx hwb
  by_cases h0 : lim = 0
  · rw [if_pos h0] at hd
    cases hd
    subst h0
    have hRR : (R.toList == R.toList) = true := by simp
    clear hli
    go_wp2_with fail
    refine HSh3.out.mono ?_
    rintro en w7 ⟨rfl, q⟩
    have hfin := Lib.hid (HF.out _ (bt b6 q).out)
    clear q b6 HSh3 HF
    go_wp2
    exact hfin.out
  · rw [if_neg h0] at hd
    cases hd
    have h2 : lim = 2 := hli.resolve_left h0
    subst h2
    have hfin := Lib.hid (HF.out _ b6.out)
    clear b6 HSh3 HF hli h0
    go_wp2
    exact hfin.out
set_option maxRecDepth 100000 in
set_option maxHeartbeats 2000000 in
theorem makes_no (W : World) (hT : Tabs W) (s : ByteArray) (e : Int) (hs : s.size ≤ 600) (hv : ¬ Vld s.data.toList) : Calls Tryz.prog 5 #[.string s, .int .i64 e] W (TrueP W) := by
  have HAw : Hid (Ret W 11 #[] (.bool true)) := Ret.of hT fun V hV => awake_any V hV
  have HOf : Hid (Txt W 22 #[.string s, .int .i64 e] (⟨#[]⟩, 3)) := Txt.of hT fun V hV => Of_no s e (by unfold maxLen; omega) hv V
  have HWh : Hid (∀ V, Calls Tryz.prog 23 #[.string s] V (fun en w' => en = .returned (.bool false) ∧ Below V.heap.size V w')) := fun V => by
    have := whole_any s (by omega) V
    rw [vldB_no _ hv] at this; exact this
  have HF : Hid (∀ w', Below W.heap.size W w' → TrueP W (.returned (.bool true)) w') := fun w' h => ⟨rfl, h⟩
  have hb0 : Hid (Below W.heap.size W W) := Below.refl _ W
  generalize TrueP W = Po at *
  have hzi : ¬ (600 : Int) < (s.size : Int) := by omega
  clear hv
  go_enter Tryz.func5, Tryz.ntmps5
  go_wp2_with fail
  refine (HAw.out _ hb0.out).mono ?_
  rintro en w1 ⟨rfl, q⟩
  have b1 := bt hb0 q
  clear q hb0
  go_wp2_with fail
  refine (HOf.out _ b1.out).mono ?_
  rintro en w2 ⟨rfl, q⟩
  have b2 := bt b1 q
  clear q b1
  go_wp2_with fail
  refine (HWh.out _).mono ?_
  rintro en w3 ⟨rfl, q⟩
  have hfin := Lib.hid (HF.out _ (bt b2 q).out)
  clear q b2 HAw HOf HWh HF
  go_wp2
  exact hfin.out
set_option maxRecDepth 100000 in
set_option maxHeartbeats 2000000 in
theorem makes_long (W : World) (hT : Tabs W) (s : ByteArray) (e : Int) (hs : 600 < s.size) (hm : s.size ≤ maxLen) : Calls Tryz.prog 5 #[.string s, .int .i64 e] W (TrueP W) := by
  have HAw : Hid (Ret W 11 #[] (.bool true)) := Ret.of hT fun V hV => awake_any V hV
  have HF : Hid (∀ w', Below W.heap.size W w' → TrueP W (.returned (.bool true)) w') := fun w' h => ⟨rfl, h⟩
  have hb0 : Hid (Below W.heap.size W W) := Below.refl _ W
  generalize TrueP W = Po at *
  have hzi : (600 : Int) < (s.size : Int) := by omega
  unfold maxLen at hm
  go_enter Tryz.func5, Tryz.ntmps5
  go_wp2_with fail
  refine (HAw.out _ hb0.out).mono ?_
  rintro en w1 ⟨rfl, q⟩
  have hfin := Lib.hid (HF.out _ (bt hb0 q).out)
  clear q hb0 HAw HF
  go_wp2
  exact hfin.out
theorem walkDecimalMakes (W : World) (hT : Tabs W) (a0 : ByteArray) (h0 : a0.size ≤ maxLen) (e : Int) (he : (Lit.int .i64 e).wf = true) :
    Calls Tryz.prog 5 #[.string a0, .int .i64 e] W (fun e W' => e = .returned (.bool true) ∧ Below W.heap.size W W') := by
  show Calls Tryz.prog 5 #[.string a0, .int .i64 e] W (TrueP W)
  have heb : -9223372036854775808 ≤ e ∧ e ≤ 9223372036854775807 := by
    have m1 : IntKind.i64.min = -9223372036854775808 := rfl
    have m2 : IntKind.i64.max = 9223372036854775807 := rfl
    simp [Lit.wf, IntKind.wrap, IntKind.bits, IntKind.signed] at he
    omega
  by_cases hs : 600 < a0.size
  · exact makes_long W hT a0 e hs h0
  · by_cases hv : Vld a0.data.toList
    · obtain ⟨z, hz, hl⟩ := vld_iff _ hv
      exact makes_yes W hT a0 e heb.1 heb.2 (by omega) z hz hl
    · exact makes_no W hT a0 e (by omega) hv
end Go.Proofs.YtpankmaljafnnaaGreatDoor
