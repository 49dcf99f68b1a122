/-
  Helper: the walk of the statement IntegerRefuses.
-/
import Derived.Test.YtmfohakcjmoiiaaILawDiv
import Derived.Test.YtmfohakcjmoiiaaIRefValid
namespace Go.Proofs.Ytmfohakcjmoiiaa
open Go.RowKit
set_option linter.unusedVariables false

def StrV (t : ByteArray) (w : World) (e : Ending) (w' : World) : Prop := e = .returned (.string t) ∧ Below w.heap.size w w'
def BoolV (b : Bool) (w : World) (e : Ending) (w' : World) : Prop := e = .returned (.bool b) ∧ Below w.heap.size w w'
def BoolS (b : Bool) (w : World) (e : Ending) (w' : World) : Prop := e = .returned (.bool b) ∧ w = w'
def TextX (ng : Bool) (w : World) (e : Ending) (w' : World) : Prop := ∃ x : Int, Sh x ∧ e = .returned (.string (TB x)) ∧ Below w.heap.size w w'

set_option maxRecDepth 100000 in
set_option maxHeartbeats 8000000 in
theorem walkIntegerRefuses (w : World) (s : ByteArray) (hs : s.size ≤ maxLen) (ng0 : Bool) (D0 : ByteArray) (nn0 : Nat) (hD0 : D0.size ≤ maxLen) (hn0 : nn0 < 65536) :
    Calls Try.prog 10 #[.string s, .agg #[.bool ng0, .string D0, .int .u16 (nn0 : Int)]] w (TrueP w) := by
  have HF : Hid (∀ w', Below w.heap.size w w' → TrueP w (.returned (.bool true)) w') := Lib.hid fun w' h => ⟨rfl, h⟩
  have HB : Hid (∀ v t, Below w.heap.size w (w.alloc (.cells v t))) := Lib.hid fun v t => (Below.refl _ w).alloc (Nat.le_refl _) _
  by_cases h15 : 1500 < s.size
  · have h15i : (1500 : Int) < (s.size : Int) := by omega
    clear hD0 hn0
    generalize TrueP w = Po at *
    go_enter Try.func10, Try.ntmps10
    go_wp2_with fail
    refine (awake_any _).mono ?_
    rintro e u1 ⟨rfl, hu1⟩
    have hfin := Lib.hid (HF.out u1 ((HB.out _ _).trans (hu1.mono (HB.out _ _).size)))
    clear hu1
    go_wp2
    exact hfin.out
  have h15i : (s.size : Int) ≤ 1500 := by omega
  by_cases hv : Vld s.data.toList
  · have HV : Hid (∀ W, Calls Try.prog 16 #[.string s] W (BoolS true W)) := Lib.hid fun W => (refValid_any s W (by omega)).mono fun e w' h => ⟨h.1.trans (by rw [vldB_yes _ hv]), h.2⟩
    clear hD0 hn0 hv
    generalize TrueP w = Po at *
    go_enter Try.func10, Try.ntmps10
    go_wp2_with fail
    refine (HV.out _).mono ?_
    rintro e u0 ⟨rfl, hw⟩
    obtain rfl := hw.symm
    go_wp2_with fail
    refine (awake_any _).mono ?_
    rintro e u1 ⟨rfl, hu1⟩
    have hfin := Lib.hid (HF.out u1 ((HB.out _ _).trans (hu1.mono (HB.out _ _).size)))
    clear hu1
    go_wp2
    exact hfin.out
  · have HV : Hid (∀ W, Calls Try.prog 16 #[.string s] W (BoolS false W)) := Lib.hid fun W => (refValid_any s W (by omega)).mono fun e w' h => ⟨h.1.trans (by rw [vldB_no _ hv]), h.2⟩
    have HT : Hid (∀ W, Calls Try.prog 17 #[.agg #[.bool ng0, .string D0, .int .u16 (nn0 : Int)]] W (TextX ng0 W)) := Lib.hid fun W => (lawtext_any ng0 D0 nn0 hD0 hn0 W).mono fun e w' ⟨m, h1, h2, h3⟩ => ⟨_, sh_zi ng0 m h1, h2, h3⟩
    have HAdd := Lib.hid (fun x (hx : Sh x) W => Add_no s (TB x) hs (TB_le x hx) (.inl hv) W)
    have HSub := Lib.hid (fun x (hx : Sh x) W => Sub_no (TB x) s (TB_le x hx) hs (.inr hv) W)
    have HMul := Lib.hid (fun x (hx : Sh x) W => Mul_no s (TB x) hs (TB_le x hx) (.inl hv) W)
    have HDiv := Lib.hid (fun x (hx : Sh x) W => DivMod_no (TB x) s W (TB_le x hx) hs (.inr hv))
    have HC1 := Lib.hid (fun x (hx : Sh x) W => Cmp_no s (TB x) W hs (TB_le x hx) (.inl hv))
    have HC2 := Lib.hid (fun x (hx : Sh x) W => Cmp_no (TB x) s W (TB_le x hx) hs (.inr hv))
    have HT10 := Lib.hid (fun W => Text_no10 s hs hv W)
    have HT3 := Lib.hid (fun W => Text_no3 s W)
    have HNeg : Hid (∀ W, Calls Try.prog 25 #[.string s] W (StrV ⟨#[]⟩ W)) := Lib.hid fun W => Neg_no s hs hv W
    have HMag : Hid (∀ W, Calls Try.prog 33 #[.string s] W (StrV ⟨#[]⟩ W)) := Lib.hid fun W => Magnitude_no s hs hv W
    have HFit : Hid (∀ W, Calls Try.prog 35 #[.string s, .int .i64 64] W (BoolV false W)) := Lib.hid fun W => Fits_no s hs hv 64 W
    clear hD0 hn0 hv hs
    generalize TrueP w = Po at *
    go_enter Try.func10, Try.ntmps10
    go_wp2_with fail
    refine (HV.out _).mono ?_
    rintro e u0 ⟨rfl, hw⟩
    obtain rfl := hw.symm
    go_wp2_with fail
    refine (HT.out _).mono ?_
    rintro e u1 ⟨x, hx, rfl, hu1⟩
    have HU1 : Hid (Below w.heap.size w u1) := (HB.out _ _).trans (hu1.mono (HB.out _ _).size)
    have HAdd := Lib.hid (HAdd.out x hx)
    have HSub := Lib.hid (HSub.out x hx)
    have HMul := Lib.hid (HMul.out x hx)
    have HDiv := Lib.hid (HDiv.out x hx)
    have HC1 := Lib.hid (HC1.out x hx)
    have HC2 := Lib.hid (HC2.out x hx)
    clear hx hu1
    generalize TB x = tx at *
    go_wp2_with fail
    refine (HAdd.out _).mono ?_
    rintro e u2 ⟨rfl, hu2⟩
    have HU2 : Hid (Below w.heap.size w u2) := HU1.out.trans (hu2.mono HU1.out.size)
    clear hu2
    go_wp2_with fail
    refine (HSub.out _).mono ?_
    rintro e u3 ⟨rfl, hu3⟩
    have HU3 : Hid (Below w.heap.size w u3) := HU2.out.trans (hu3.mono HU2.out.size)
    clear hu3
    go_wp2_with fail
    refine (HMul.out _).mono ?_
    rintro e u4 ⟨rfl, hu4⟩
    have HU4 : Hid (Below w.heap.size w u4) := HU3.out.trans (hu4.mono HU3.out.size)
    clear hu4
    go_wp2_with fail
    refine (HDiv.out _).mono ?_
    rintro e u5 ⟨rfl, hu5⟩
    have HU5 : Hid (Below w.heap.size w u5) := HU4.out.trans (hu5.mono HU4.out.size)
    clear hu5
    go_wp2_with fail
    refine (HT10.out _).mono ?_
    rintro e u6 ⟨rfl, hu6⟩
    have HU6 : Hid (Below w.heap.size w u6) := HU5.out.trans (hu6.mono HU5.out.size)
    clear hu6
    go_wp2_with fail
    refine (HT3.out _).mono ?_
    rintro e u7 ⟨rfl, hu7⟩
    have HU7 : Hid (Below w.heap.size w u7) := HU6.out.trans (hu7.mono HU6.out.size)
    clear hu7
    go_wp2_with fail
    rotate_left 1
    · rename_i hstop
      exact absurd (by first | (simp [Lib.toList_data]; done) | decide +kernel) hstop
    refine (HC1.out _).mono ?_
    rintro e u8 ⟨rfl, hu8⟩
    have HU8 : Hid (Below w.heap.size w u8) := HU7.out.trans (hu8.mono HU7.out.size)
    clear hu8
    go_wp2_with fail
    refine (HC2.out _).mono ?_
    rintro e u9 ⟨rfl, hu9⟩
    have HU9 : Hid (Below w.heap.size w u9) := HU8.out.trans (hu9.mono HU8.out.size)
    clear hu9
    go_wp2_with fail
    refine (HNeg.out _).mono ?_
    rintro e u10 ⟨rfl, hu10⟩
    have HU10 : Hid (Below w.heap.size w u10) := HU9.out.trans (hu10.mono HU9.out.size)
    clear hu10
    go_wp2_with fail
    refine (HFit.out _).mono ?_
    rintro e u11 ⟨rfl, hu11⟩
    have HU11 : Hid (Below w.heap.size w u11) := HU10.out.trans (hu11.mono HU10.out.size)
    clear hu11
    go_wp2_with fail
    refine (HMag.out _).mono ?_
    rintro e u12 ⟨rfl, hu12⟩
    have HU12 : Hid (Below w.heap.size w u12) := HU11.out.trans (hu12.mono HU11.out.size)
    clear hu12
    go_wp2_with fail
    refine (awake_any _).mono ?_
    rintro e u13 ⟨rfl, hu13⟩
    have HU13 : Hid (Below w.heap.size w u13) := HU12.out.trans (hu13.mono HU12.out.size)
    clear hu13
    have hfin := Lib.hid (HF.out _ HU13.out)
    go_wp2
    exact hfin.out
end Go.Proofs.Ytmfohakcjmoiiaa
