/-
  Helper: the walk of the statement IntegerAdds.
-/
import Derived.Test.YtmnopohjnbpinabIRefCmp
import Derived.Test.YtmnopohjnbpinabIRefOf
import Derived.Test.YtmnopohjnbpinabITextY
namespace Go.Proofs.Ytmnopohjnbpinab
open Go.RowKit
set_option linter.unusedVariables false

/-- a description of an integer, as the reference has it -/
def Iv (z : Int) (a : Option Addr) (c : Nat) : Value := .agg #[.bool (neg z), .slice a (E 10 z.natAbs).length c]
/-- what the calls of the statement say, over results that are opaque -/
def AddsF (x y xn yn s d k ea es : Int) (tx ty va vs tn : ByteArray) : Prop :=
  (∀ W, Calls Try.prog 17 #[.string tx] W (NumP x W)) ∧ (∀ W, Calls Try.prog 17 #[.string ty] W (NumP y W)) ∧
  (∀ W, Calls Try.prog 18 #[.string tx, .string ty] W fun e w' => e = .returned (.tuple #[.string va, .int .i64 ea]) ∧ Below W.heap.size W w') ∧
  (∀ W, Calls Try.prog 19 #[.string tx, .string ty] W fun e w' => e = .returned (.tuple #[.string vs, .int .i64 es]) ∧ Below W.heap.size W w') ∧
  (∀ W, Calls Try.prog 20 #[.string tx, .string ty] W fun e w' => e = .returned (.int .i64 k) ∧ Below W.heap.size W w') ∧
  (∀ a b c c' W, Rb W a (E 10 x.natAbs) → Rb W b (E 10 y.natAbs) → Calls Try.prog 21 #[Iv x a c, Iv y b c'] W fun e w' => e = .returned (.int .i64 k) ∧ Below W.heap.size W w') ∧
  (∀ W, Calls Try.prog 22 #[.string tx] W fun e w' => e = .returned (.string tn) ∧ Below W.heap.size W w') ∧
  (∀ a c W, Rb W a (E 10 x.natAbs) → (E 10 x.natAbs).length ≤ c → Calls Try.prog 23 #[Iv x a c] W (NumP xn W)) ∧
  (∀ a c W, Rb W a (E 10 xn.natAbs) → Calls Try.prog 24 #[Iv xn a c] W fun e w' => e = .returned (.string tn) ∧ Below W.heap.size W w') ∧
  (∀ a b c c' W, Rb W a (E 10 x.natAbs) → Rb W b (E 10 y.natAbs) → Calls Try.prog 25 #[Iv x a c, Iv y b c'] W (NumP s W)) ∧
  (∀ a c W, Rb W a (E 10 s.natAbs) → Calls Try.prog 11 #[.string va, .int .i64 ea, Iv s a c, .int .i64 0] W (TrueP W)) ∧
  (∀ a c W, Rb W a (E 10 y.natAbs) → (E 10 y.natAbs).length ≤ c → Calls Try.prog 23 #[Iv y a c] W (NumP yn W)) ∧
  (∀ a b c c' W, Rb W a (E 10 x.natAbs) → Rb W b (E 10 yn.natAbs) → Calls Try.prog 25 #[Iv x a c, Iv yn b c'] W (NumP d W)) ∧
  (∀ a c W, Rb W a (E 10 d.natAbs) → Calls Try.prog 11 #[.string vs, .int .i64 es, Iv d a c, .int .i64 0] W (TrueP W))
theorem adds_facts (x y : Int) (hx : Sh x) (hy : Sh y) : ∃ (xn yn s d k ea es : Int) (va vs tn : ByteArray), AddsF x y xn yn s d k ea es (TB x) (TB y) va vs tn := by
  have lx : (E 10 x.natAbs).length ≤ 400 := hx
  have ly : (E 10 y.natAbs).length ≤ 400 := hy
  have lyn : (E 10 (-y).natAbs).length ≤ 400 := by rw [Int.natAbs_neg]; exact hy
  have lxn : (E 10 (-x).natAbs).length ≤ 400 := by rw [Int.natAbs_neg]; exact hx
  refine ⟨-x, -y, x + y, x + -y, cmpZ x y, oe (x + y), oe (x + -y), ov (x + y), ov (x + -y), TB (-x), ?_, ?_, ?_, ?_, ?_, ?_, ?_, ?_, ?_, ?_, ?_, ?_, ?_, ?_⟩
  · exact fun W => refOf_any x hx (TB x) (TB_list x) W
  · exact fun W => refOf_any y hy (TB y) (TB_list y) W
  · exact fun W => AddU x y hx hy W
  · exact fun W => SubU x y hx hy W
  · exact fun W => Cmp_yes x y hx hy (TB x) (TB y) (TB_list x) (TB_list y) W
  · exact fun a b c c' W h1 h2 => refCmp_any x y a b c c' W (by omega) (by omega) h1 h2
  · exact fun W => Neg_yes x hx (TB x) (TB_list x) W
  · exact fun a c W h1 h2 => refNeg_any x a c W (by omega) h1 h2
  · exact fun a c W h1 => refText_any (-x) a c W h1 (by omega)
  · exact fun a b c c' W h1 h2 => refAdd_any x y a b c c' W (by omega) (by omega) h1 h2
  · exact fun a c W h1 => agreeU (x + y) a c W h1
  · exact fun a c W h1 h2 => refNeg_any y a c W (by omega) h1 h2
  · exact fun a b c c' W h1 h2 => refAdd_any x (-y) a b c c' W (by omega) (by omega) h1 h2
  · exact fun a c W h1 => agreeU (x + -y) a c W h1

set_option maxRecDepth 100000 in
set_option maxHeartbeats 8000000 in
theorem walkIntegerAdds (w : World) (ng0 : Bool) (D0 : ByteArray) (nn0 : Nat) (hD0 : D0.size ≤ maxLen) (hn0 : nn0 < 65536) (ng1 : Bool) (D1 : ByteArray) (nn1 : Nat) (hD1 : D1.size ≤ maxLen) (hn1 : nn1 < 65536) :
    Calls Try.prog 5 #[.agg #[.bool ng0, .string D0, .int .u16 (nn0 : Int)], .agg #[.bool ng1, .string D1, .int .u16 (nn1 : Int)]] w (TrueP w) := by
  have HT0 := Lib.hid (fun W => lawtext_any ng0 D0 nn0 hD0 hn0 W)
  have HT1 := Lib.hid (fun W => lawtext_any ng1 D1 nn1 hD1 hn1 W)
  have HF : Hid (∀ w', Below w.heap.size w w' → TrueP w (.returned (.bool true)) w') := Lib.hid fun w' h => ⟨rfl, h⟩
  clear hD0 hD1 hn0 hn1
  generalize TrueP w = Po at *
  go_enter Try.func5, Try.ntmps5
  go_wp2_with fail
  obtain ⟨hst, hbw, hN⟩ := nb2_start w 36 (.bool ng0) (.string D0) (.int .u16 (nn0 : Int)) (.bool ng1) (.string D1) (.int .u16 (nn1 : Int)) w.heap.size rfl _ rfl
  generalize (w.alloc (.cells #[.bool ng0, .string D0, .int .u16 (nn0 : Int)] 36)).alloc (.cells #[.bool ng1, .string D1, .int .u16 (nn1 : Int)] 36) = W0 at *
  generalize hn0 : w.heap.size = n at *
  have hnh := Lib.hid hn0
  clear hn0
  have hNh := Lib.hid hN
  have hbwh := Lib.hid hbw
  clear hN hbw
  have hS1 : W0.cell? ⟨n, 0, none⟩ = some (Value.bool ng0) ∧ W0.cell? ⟨n, 1, none⟩ = some (Value.string D0) ∧ W0.cell? ⟨n, 2, none⟩ = some (Value.int .u16 (nn0 : Int)) ∧ W0.cell? ⟨n + 1, 0, none⟩ = some (Value.bool ng1) ∧ W0.cell? ⟨n + 1, 1, none⟩ = some (Value.string D1) ∧ W0.cell? ⟨n + 1, 2, none⟩ = some (Value.int .u16 (nn1 : Int)) ∧ Below (n + 1 + 1) W0 W0 := hst
  clear hst
  go_region_held3 (fun w' => w'.cell? ⟨n, 0, none⟩ = some (Value.bool ng0) ∧ w'.cell? ⟨n, 1, none⟩ = some (Value.string D0) ∧ w'.cell? ⟨n, 2, none⟩ = some (Value.int .u16 (nn0 : Int)) ∧ w'.cell? ⟨n + 1, 0, none⟩ = some (Value.bool ng1) ∧ w'.cell? ⟨n + 1, 1, none⟩ = some (Value.string D1) ∧ w'.cell? ⟨n + 1, 2, none⟩ = some (Value.int .u16 (nn1 : Int)) ∧ Below (n + 1 + 1) W0 w')
    (first | (with_reducible assumption) | (with_reducible exact nb2_drew (by assumption)) | (with_reducible exact nb2_keep (by assumption) hNh.out (by assumption)))
    (first | (go_at_call 14; (with_reducible refine (HT0.out _).mono ?_); rintro e w1 ⟨m0, hm0, rfl, hb1⟩) | (go_at_call 14; (with_reducible refine (HT1.out _).mono ?_); rintro e w2 ⟨m1, hm1, rfl, hb2⟩))
  have HB0 : Hid (Below n w w2) := hbwh.out.trans (((Below.refl _ W0).drew.trans hb1).trans (hb2.mono hb1.size) |>.mono (by have := hNh.out; show n ≤ W0.heap.size; omega))
  have hx := sh_zi ng0 m0 hm0
  have hy := sh_zi ng1 m1 hm1
  rename_i hHeld
  clear hHeld hS1 hb1 hb2 hm0 hm1 hNh hbwh HT0 HT1
  generalize zi ng0 m0 = x at *
  generalize zi ng1 m1 = y at *
  obtain ⟨xn, yn, s, d, k, ea, es, va, vs, tn, HAF⟩ := adds_facts x y hx hy
  have HA := Lib.hid HAF
  clear HAF hx hy
  generalize TB x = tx at *
  generalize TB y = ty at *
  go_wp2_with fail
  refine (HA.out.1 _).mono ?_
  rintro e w3 ⟨ax, cx, rfl, hrx, hcx, hb3⟩
  have HB3 : Hid (Below n w w3) := Lib.hid (HB0.out.trans (hb3.mono (by have := HB0.out.size; have := hnh.out; omega)))
  have HRX := Lib.hid hrx
  have HCX := Lib.hid hcx
  clear hb3 hrx hcx HB0
  go_wp2_with fail
  refine (HA.out.2.1 _).mono ?_
  rintro e w4 ⟨ay, cy, rfl, hry, hcy, hb4⟩
  have HB4 : Hid (Below n w w4) := Lib.hid (HB3.out.trans (hb4.mono (by have := HB3.out.size; have := hnh.out; omega)))
  have HRX4 := Lib.hid (HRX.out.go hb4)
  have HRY := Lib.hid hry
  have HCY := Lib.hid hcy
  clear hb4 hry hcy HB3 HRX
  go_wp2_with fail
  obtain ⟨hc4, hbb, hsz⟩ := two_boxes w4 (neg x) (neg y) (.slice ax (E 10 x.natAbs).length cx) (.slice ay (E 10 y.natAbs).length cy) 28 _ rfl
  generalize (w4.alloc (.cells #[.bool (neg x), .slice ax (E 10 x.natAbs).length cx] 28)).alloc (.cells #[.bool (neg y), .slice ay (E 10 y.natAbs).length cy] 28) = W5 at *
  have HX : Hid (∀ W, Below (w4.heap.size + 1 + 1) W5 W → Rb W ax (E 10 x.natAbs) ∧ Rb W ay (E 10 y.natAbs) ∧ Below n w W) := Lib.hid fun W h =>
    have hb := hbb.trans (h.mono (by omega))
    ⟨HRX4.out.go hb, HRY.out.go hb, HB4.out.trans (hb.mono (by have := HB4.out.size; have := hnh.out; omega))⟩
  have hS5 := Lib.hid hc4
  have hKL := Lib.hid (Nat.le_of_eq hsz)
  clear hc4 hbb hsz HRX4 HRY HB4
  generalize w4.heap.size = k0 at *
  obtain ⟨_, _, H3, H4, H5, H6, H7, H8, H9, H10, H11, H12, H13, H14⟩ := HA.out
  have H3 := Lib.hid H3
  have H4 := Lib.hid H4
  have H5 := Lib.hid H5
  have H6 := Lib.hid H6
  have H7 := Lib.hid H7
  have H8 := Lib.hid H8
  have H9 := Lib.hid H9
  have H10 := Lib.hid H10
  have H11 := Lib.hid H11
  have H12 := Lib.hid H12
  have H13 := Lib.hid H13
  have H14 := Lib.hid H14
  clear HA
  unfold Iv at H6 H8 H9 H10 H11 H12 H13 H14
  generalize neg x = bx at *
  generalize neg y = by' at *
  generalize (E 10 x.natAbs).length = lx at *
  generalize (E 10 y.natAbs).length = ly at *
  refine (H3.out _).mono ?_
  rintro e u1 ⟨rfl, hu1⟩
  have hS6 := Lib.hid (S2.keepL hu1 hKL.out ⟨hS5.out.1, hS5.out.2.1, hS5.out.2.2.1, hS5.out.2.2.2, Below.refl _ _⟩)
  clear hu1 hS5
  go_wp2_with fail
  refine (H4.out _).mono ?_
  rintro e u2 ⟨rfl, hu2⟩
  have hS7 := S2.keepL hu2 hKL.out hS6.out
  clear hu2 hS6
  go_wp2_with fail
  go_region_held3 (fun w' => w'.cell? ⟨k0, 0, none⟩ = some (.bool bx) ∧ w'.cell? ⟨k0, 1, none⟩ = some (.slice ax lx cx) ∧ w'.cell? ⟨k0 + 1, 0, none⟩ = some (.bool by') ∧ w'.cell? ⟨k0 + 1, 1, none⟩ = some (.slice ay ly cy) ∧ Below (k0 + 1 + 1) W5 w')
    (first | (with_reducible assumption) | (with_reducible exact S2.drewC (by assumption)) | (with_reducible exact S2.keepL (by assumption) hKL.out (by assumption)))
    (first | (go_at_call 20; (with_reducible refine (H5.out _).mono ?_); rintro e v1 ⟨rfl, g1⟩) | (go_at_call 21; (with_reducible refine (H6.out ax ay cx cy _ ?_ ?_).mono ?_); exact (HX.out _ (by assumption : _ ∧ _ ∧ _ ∧ _ ∧ Below _ _ _).2.2.2.2).1; exact (HX.out _ (by assumption : _ ∧ _ ∧ _ ∧ _ ∧ Below _ _ _).2.2.2.2).2.1; rintro e v2 ⟨rfl, g2⟩) | (go_at_call 22; (with_reducible refine (H7.out _).mono ?_); rintro e v3 ⟨rfl, g3⟩) | (go_at_call 23; (with_reducible refine (H8.out ax cx _ ?_ HCX.out).mono ?_); exact (HX.out _ (by assumption : _ ∧ _ ∧ _ ∧ _ ∧ Below _ _ _).2.2.2.2).1; rintro e v4 ⟨a4, c4, rfl, q4, _, g4⟩) | (go_at_call 24; (with_reducible refine (H9.out a4 c4 _ q4).mono ?_); rintro e v5 ⟨rfl, g5⟩) | (go_at_call 25; (with_reducible refine (H10.out ax ay cx cy _ ?_ ?_).mono ?_); exact (HX.out _ (by assumption : _ ∧ _ ∧ _ ∧ _ ∧ Below _ _ _).2.2.2.2).1; exact (HX.out _ (by assumption : _ ∧ _ ∧ _ ∧ _ ∧ Below _ _ _).2.2.2.2).2.1; rintro e v6 ⟨a6, c6, rfl, q6, _, g6⟩) | (go_at_call 11; (with_reducible refine (H11.out a6 c6 _ q6).mono ?_); rintro e v7 ⟨rfl, g7⟩) | (go_at_call 23; (with_reducible refine (H12.out ay cy _ ?_ HCY.out).mono ?_); exact (HX.out _ (by assumption : _ ∧ _ ∧ _ ∧ _ ∧ Below _ _ _).2.2.2.2).2.1; rintro e v8 ⟨a8, c8, rfl, q8, _, g8⟩) | (go_at_call 25; (with_reducible refine (H13.out ax a8 cx c8 _ ?_ q8).mono ?_); exact (HX.out _ (by assumption : _ ∧ _ ∧ _ ∧ _ ∧ Below _ _ _).2.2.2.2).1; rintro e v9 ⟨a9, c9, rfl, q9, _, g9⟩) | (go_at_call 11; (with_reducible refine (H14.out a9 c9 _ q9).mono ?_); rintro e v10 ⟨rfl, g10⟩) | (go_at_call 8; refine (awake_any _).mono ?_; rintro e v11 ⟨rfl, g11⟩))
  have hfin := Lib.hid (HF.out v11 (HX.out v11 (by assumption : _ ∧ _ ∧ _ ∧ _ ∧ Below (k0 + 1 + 1) W5 v11).2.2.2.2).2.2)
  clear g1 g2 g3 g4 g5 g6 g7 g8 g9 g10 g11 q4 q6 q8 q9 H3 H4 H5 H6 H7 H8 H9 H10 H11 H12 H13 H14 HX HF
  go_wp2
  exact hfin.out
end Go.Proofs.Ytmnopohjnbpinab
