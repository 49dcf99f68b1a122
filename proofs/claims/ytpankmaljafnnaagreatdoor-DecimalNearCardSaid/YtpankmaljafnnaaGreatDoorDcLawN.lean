/-
  Helper: the walk of DecimalNear.
-/
import Derived.Test.YtpankmaljafnnaaGreatDoorDcDec
namespace Go.Proofs.YtpankmaljafnnaaGreatDoor
open Go.RowKit
set_option linter.unusedVariables false
set_option linter.unusedSimpArgs false

/-- a call that answers a text and an error number, wherever it stands -/
def Txt (W : World) (f : FuncId) (args : Array Value) (r : ByteArray × Int) : Prop := ∀ V, Below W.heap.size W V → Calls Tryz.prog f args V (fun en w' => en = .returned (.tuple #[.string r.1, .int .i64 r.2]) ∧ Below V.heap.size V w')
def Ret (W : World) (f : FuncId) (args : Array Value) (v : Value) : Prop := ∀ V, Below W.heap.size W V → Calls Tryz.prog f args V (fun en w' => en = .returned v ∧ Below V.heap.size V w')
def TrueP (W : World) (en : Ending) (w' : World) : Prop := en = .returned (.bool true) ∧ Below W.heap.size W w'
set_option maxRecDepth 100000 in
set_option maxHeartbeats 4000000 in
theorem near_core (W : World) (a0 : ByteArray) (p : Int) (hp1 : -128 ≤ p) (hp2 : p ≤ 127) (hz : a0.size ≤ 200) (rt mt gt tt ut lt : ByteArray) (e g h c1 c2 : Int) (he : e = 0 ∨ e = 2)
    (HAw : Hid (Ret W 11 #[] (.bool true))) (HV : Hid (Ret W 18 #[.string a0] (.bool true)))
    (HRd : Hid (Txt W 34 #[.string a0, .int .i64 p] (rt, e)))
    (HMi : Hid (e = 0 → Txt W 26 #[.string a0, .string ⟨#[45, 49, 101, 48]⟩] (mt, 0)))
    (HGa : Hid (e = 0 → Txt W 25 #[.string rt, .string mt] (gt, g)))
    (HTw : Hid (e = 0 → Txt W 26 #[.string gt, .string ⟨#[50, 101, 48]⟩] (tt, h)))
    (HUn : Hid (e = 0 → Txt W 22 #[.string ⟨#[49]⟩, .int .i64 (-p)] (ut, 0)))
    (HLe : Hid (e = 0 → Txt W 22 #[.string ⟨#[45, 49]⟩, .int .i64 (-p)] (lt, 0)))
    (HAg : Hid (e = 0 → Txt W 34 #[.string rt, .int .i64 p] (rt, 0)))
    (HC1 : Hid (e = 0 → g = 0 → h = 0 → c1 ≤ 0 ∧ Ret W 27 #[.string tt, .string ut] (.int .i64 c1)))
    (HC2 : Hid (e = 0 → g = 0 → h = 0 → 0 ≤ c2 ∧ Ret W 27 #[.string tt, .string lt] (.int .i64 c2))) :
    Calls Tryz.prog 10 #[.string a0, .int .i8 p] W (TrueP W) := by
  have HF : Hid (∀ w', Below W.heap.size W w' → TrueP W (.returned (.bool true)) w') := fun w' h => ⟨rfl, h⟩
  have hb0 : Hid (Below W.heap.size W W) := Below.refl _ W
  generalize TrueP W = Po at *
  have hzi : ¬ (200 : Int) < (a0.size : Int) := by omega
  have hpw : IntKind.i64.wrap (-p) = -p := wrapI _ (by omega) (by omega)
  have hpw2 : IntKind.i64.wrap p = p := wrapI _ (by omega) (by omega)
  go_enter Tryz.func10, Tryz.ntmps10
  go_wp2_with fail
  refine (HAw.out _ hb0.out).mono ?_
  rintro en w1 ⟨rfl, q⟩
  have b1 := bt hb0 q
  clear q hb0
  go_wp2_with fail
  refine (HV.out _ b1.out).mono ?_
  rintro en w2 ⟨rfl, q⟩
  have b2 := bt b1 q
  clear q b1
  go_wp2_with fail
  refine (HRd.out _ b2.out).mono ?_
  rintro en w3 ⟨rfl, q⟩
  have b3 := bt b2 q
  clear q b2
  rcases he with rfl | rfl
  · have HMi2 := Lib.hid (HMi.out rfl)
    have HGa2 := Lib.hid (HGa.out rfl)
    have HTw2 := Lib.hid (HTw.out rfl)
    have HUn2 := Lib.hid (HUn.out rfl)
    have HLe2 := Lib.hid (HLe.out rfl)
    have HAg2 := Lib.hid (HAg.out rfl)
    clear HMi HGa HTw HUn HLe HAg HAw HV HRd
    go_wp2_with fail
    refine (HMi2.out _ b3.out).mono ?_
    rintro en w4 ⟨rfl, q⟩
    have b4 := bt b3 q
    clear q b3
    go_wp2_with fail
    refine (HGa2.out _ b4.out).mono ?_
    rintro en w5 ⟨rfl, q⟩
    have b5 := bt b4 q
    clear q b4
    go_wp2_with fail
    refine (HTw2.out _ b5.out).mono ?_
    rintro en w6 ⟨rfl, q⟩
    have b6 := bt b5 q
    clear q b5
    go_wp2_with fail
    refine (HUn2.out _ b6.out).mono ?_
    rintro en w7 ⟨rfl, q⟩
    have b7 := bt b6 q
    clear q b6
    go_wp2_with fail
    refine (HLe2.out _ b7.out).mono ?_
    rintro en w8 ⟨rfl, q⟩
    have b8 := bt b7 q
    clear q b7
    go_wp2_with fail
    refine (HAg2.out _ b8.out).mono ?_
    rintro en w9 ⟨rfl, q⟩
    have b9 := bt b8 q
    clear q b8 HMi2 HGa2 HTw2 HUn2 HLe2 HAg2
    have hbq : (rt.toList == rt.toList) = true := by simp
    by_cases hg : g = 0
    · by_cases hh : h = 0
      · obtain ⟨y1, y2⟩ := HC1.out (by first | rfl | trivial) hg hh
        obtain ⟨y3, y4⟩ := HC2.out (by first | rfl | trivial) hg hh
        have Y2 := Lib.hid y2
        have Y4 := Lib.hid y4
        subst hg hh
        clear y2 y4 HC1 HC2
        go_wp2_with fail
        refine (Y2.out _ b9.out).mono ?_
        rintro en w10 ⟨rfl, q⟩
        have b10 := bt b9 q
        clear q b9
        go_wp2_with fail
        refine (Y4.out _ b10.out).mono ?_
        rintro en w11 ⟨rfl, q⟩
        have b11 := bt b10 q
        have hfin := Lib.hid (HF.out _ b11.out)
        clear q b10 HF
        go_wp2
        exact hfin.out
      · have hh2 : (h != 0) = true := by simpa using hh
        have hfin := Lib.hid (HF.out _ b9.out)
        subst hg
        clear HC1 HC2 HF hh
        go_wp2
        exact hfin.out
    · have hg2 : (g != 0) = true := by simpa using hg
      have hfin := Lib.hid (HF.out _ b9.out)
      clear HC1 HC2 HF hg
      go_wp2
      exact hfin.out
  · have hfin := Lib.hid (HF.out _ b3.out)
    clear HMi HGa HTw HUn HLe HAg HAw HV HRd HC1 HC2 HF
    go_wp2
    exact hfin.out
end Go.Proofs.YtpankmaljafnnaaGreatDoor
