/-
  Helper: the walk of the statement IntegerBytes.
-/
import Derived.Test.YtmnopohjnbpinabIRefFit
import Derived.Test.YtmnopohjnbpinabIRefCmp
namespace Go.Proofs.Ytmnopohjnbpinab
open Go.RowKit
set_option linter.unusedVariables false

def Jv (z : Int) (a : Option Addr) (c : Nat) : Value := .agg #[.bool (neg z), .slice a (E 10 z.natAbs).length c]
/-- what the calls of the statement say, over results that are opaque -/
def BytF (x y bits eo : Int) (ng r : Bool) (tx tm vo b : ByteArray) : Prop :=
  (∀ W, Calls Try.prog 17 #[.string tx] W (NumP x W)) ∧
  (∀ W, Calls Try.prog 30 #[.string tx] W fun e w' => e = .returned (.string tm) ∧ Below W.heap.size W w') ∧
  (∀ W, Calls Try.prog 31 #[.string tm, .bool ng] W fun e w' => e = .returned (.tuple #[.string tx, .int .i64 0]) ∧ Below W.heap.size W w') ∧
  (∀ W, Calls Try.prog 31 #[.string b, .bool ng] W fun e w' => e = .returned (.tuple #[.string vo, .int .i64 eo]) ∧ Below W.heap.size W w') ∧
  (∀ W, Calls Try.prog 32 #[.string tx, .int .i64 bits] W fun e w' => e = .returned (.bool r) ∧ Below W.heap.size W w') ∧
  (∀ a c W, Rb W a (E 10 x.natAbs) → Calls Try.prog 33 #[Jv x a c, .int .i64 bits] W fun e w' => e = .returned (.bool r) ∧ Below W.heap.size W w') ∧
  (∀ a c W, Rb W a (E 10 x.natAbs) → Calls Try.prog 34 #[Jv x a c] W fun e w' => e = .returned (.string tm) ∧ Below W.heap.size W w') ∧
  (∀ W, Calls Try.prog 35 #[.string b, .bool ng] W (NumP y W)) ∧
  (∀ a c W, Rb W a (E 10 y.natAbs) → Calls Try.prog 11 #[.string vo, .int .i64 eo, Jv y a c, .int .i64 0] W (TrueP W))
theorem bytes_facts (ng : Bool) (m : Nat) (hx : Sh (zi ng m)) (b : ByteArray) (hb : b.size ≤ 300) (bits : Int) (hbits : bits ≤ 9223372036854775807) : ∃ (y eo : Int) (r : Bool) (tm vo : ByteArray), BytF (zi ng m) y bits eo ng r (TB (zi ng m)) tm vo b := by
  have hl : (E 10 (zi ng m).natAbs).length ≤ 400 := hx
  have hm : (E 256 m).length ≤ 400 := by have := len256 m 400 (by rw [zi_abs] at hl; exact hl); exact this
  refine ⟨zi ng (vm 256 b.data.toList), oe (zi ng (vm 256 b.data.toList)), decide ((bl (fitN (zi ng m)) : Int) < bits), ⟨(E 256 (zi ng m).natAbs).reverse.toArray⟩, ov (zi ng (vm 256 b.data.toList)), ?_, ?_, ?_, ?_, ?_, ?_, ?_, ?_, ?_⟩
  · exact fun W => refOf_any _ hx _ (TB_list _) W
  · exact fun W => Magnitude_yes _ hx _ (TB_list _) W
  · intro W
    refine (ofMag_any ⟨(E 256 (zi ng m).natAbs).reverse.toArray⟩ ng W ?_).mono fun e w' h => ?_
    · have e : (⟨(E 256 (zi ng m).natAbs).reverse.toArray⟩ : ByteArray).size = (E 256 (zi ng m).natAbs).length := by simp [ByteArray.size]
      rw [e, zi_abs]; omega
    · have hv : vm 256 (⟨(E 256 (zi ng m).natAbs).reverse.toArray⟩ : ByteArray).data.toList = m := by
        show vm 256 (E 256 (zi ng m).natAbs).reverse.toArray.toList = m
        rw [List.toList_toArray, vm_reverse, vb_E 256 _ (by omega) (by omega), zi_abs]
      rw [hv] at h
      exact ⟨h.1.trans (by rw [ov_yes hx, oe_yes hx]), h.2⟩
  · exact fun W => ofMag_any b ng W (by omega)
  · exact fun W => Fits_yes _ hx _ (TB_list _) bits W
  · exact fun a c W h => refFits_any _ bits hbits a c W h hl
  · exact fun a c W h => refBytes_any _ a c W h hl
  · exact fun W => refOfBytes_any b ng W (by omega)
  · exact fun a c W h => agreeU _ a c W h
theorem SB.drew {W0 w : World} {n k : Nat} {v0 v1 v2 : Value} (h : w.cell? ⟨n, 0, none⟩ = some v0 ∧ w.cell? ⟨k, 0, none⟩ = some v1 ∧ w.cell? ⟨k, 1, none⟩ = some v2 ∧ Below (k + 1) W0 w) :
    w.drew.cell? ⟨n, 0, none⟩ = some v0 ∧ w.drew.cell? ⟨k, 0, none⟩ = some v1 ∧ w.drew.cell? ⟨k, 1, none⟩ = some v2 ∧ Below (k + 1) W0 w.drew := by
  obtain ⟨h1, h2, h3, h9⟩ := h
  exact ⟨h1, h2, h3, h9.drew⟩
theorem SB.keep {W0 w w' : World} {n k : Nat} {v0 v1 v2 : Value} (hb : Below w.heap.size w w') (hk : n < k + 1 ∧ k + 1 ≤ W0.heap.size) (h : w.cell? ⟨n, 0, none⟩ = some v0 ∧ w.cell? ⟨k, 0, none⟩ = some v1 ∧ w.cell? ⟨k, 1, none⟩ = some v2 ∧ Below (k + 1) W0 w) :
    w'.cell? ⟨n, 0, none⟩ = some v0 ∧ w'.cell? ⟨k, 0, none⟩ = some v1 ∧ w'.cell? ⟨k, 1, none⟩ = some v2 ∧ Below (k + 1) W0 w' := by
  obtain ⟨h1, h2, h3, h9⟩ := h
  have hs := h9.size
  have hc : ∀ b o, b < k + 1 → w'.cell? ⟨b, o, none⟩ = w.cell? ⟨b, o, none⟩ := fun b o h => hb.cell (p := ⟨b, o, none⟩) (by show b < _; omega)
  exact ⟨by rw [hc _ _ (by omega)]; exact h1, by rw [hc _ _ (by omega)]; exact h2, by rw [hc _ _ (by omega)]; exact h3, h9.trans (hb.mono (by omega))⟩

set_option maxRecDepth 100000 in
set_option maxHeartbeats 8000000 in
theorem walkIntegerBytes (w : World) (ng : Bool) (D0 : ByteArray) (nn0 : Nat) (hD0 : D0.size ≤ maxLen) (hn0 : nn0 < 65536) (b : ByteArray) (hb : b.size ≤ maxLen) (bits : Int) (hbw : (Lit.int .i64 bits).wf = true) :
    Calls Try.prog 7 #[.agg #[.bool ng, .string D0, .int .u16 (nn0 : Int)], .string b, .int .i64 bits] w (TrueP w) := by
  have hbits : bits ≤ 9223372036854775807 := by
    simp only [Lit.wf, Bool.and_eq_true, decide_eq_true_eq] at hbw
    exact hbw.2
  have HT0 := Lib.hid (fun W => lawtext_any ng D0 nn0 hD0 hn0 W)
  have HF : Hid (∀ w', Below w.heap.size w w' → TrueP w (.returned (.bool true)) w') := Lib.hid fun w' h => ⟨rfl, h⟩
  have HB0 : Hid (∀ o, Below w.heap.size w (w.alloc o)) := Lib.hid fun o => (Below.refl _ w).alloc (Nat.le_refl _) o
  clear hD0 hn0 hbw hb
  generalize TrueP w = Po at *
  by_cases h3 : 300 < b.size
  · have h3i : (300 : Int) < (b.size : Int) := by omega
    clear HT0 hbits h3
    go_enter Try.func7, Try.ntmps7
    go_wp2_with fail
    refine (awake_any _).mono ?_
    rintro e w1 ⟨rfl, h1⟩
    have hfin := Lib.hid (HF.out _ ((HB0.out _).trans (h1.mono (by simp))))
    clear h1 HF HB0
    go_wp2
    exact hfin.out
  · have h3i : (b.size : Int) ≤ 300 := by omega
    have hb3 : b.size ≤ 300 := by omega
    have hnum : Hid (∀ W, Below (w.heap.size + 1) (w.alloc (.cells #[.bool ng, .string D0, .int .u16 (nn0 : Int)] 36)) W → W.cell? ⟨w.heap.size, 0, none⟩ = some (.bool ng) ∧ Below w.heap.size w W) := Lib.hid fun W h =>
      ⟨by rw [h.cell (p := ⟨w.heap.size, 0, none⟩) (Nat.lt_succ_self _), World.cell?_alloc_at _ _ _ _ rfl]; rfl, (HB0.out _).trans (h.mono (Nat.le_succ _))⟩
    have hW0 : Hid ((w.alloc (.cells #[.bool ng, .string D0, .int .u16 (nn0 : Int)] 36)).heap.size = w.heap.size + 1) := Lib.hid (by simp)
    clear h3 HB0
    go_enter Try.func7, Try.ntmps7
    go_wp2_with fail
    generalize w.alloc (.cells #[.bool ng, .string D0, .int .u16 (nn0 : Int)] 36) = W0 at *
    refine (HT0.out _).mono ?_
    rintro e w1 ⟨m0, hm0, rfl, hb1⟩
    have hx := sh_zi ng m0 hm0
    have H1 : Hid (Below (w.heap.size + 1) W0 w1) := Lib.hid (by rw [← hW0.out]; exact hb1)
    obtain ⟨y, eo, r, tm, vo, HBF⟩ := bytes_facts ng m0 hx b hb3 bits hbits
    have HA := Lib.hid HBF
    clear HBF hb1 hm0 hx HT0 hbits hb3
    generalize zi ng m0 = x at *
    generalize TB x = tx at *
    have G1 := Lib.hid HA.out.1
    have G2 := Lib.hid HA.out.2.1
    have G3 := Lib.hid HA.out.2.2.1
    have G4 := Lib.hid HA.out.2.2.2.1
    have G5 := Lib.hid HA.out.2.2.2.2.1
    have G6 := Lib.hid HA.out.2.2.2.2.2.1
    have G7 := Lib.hid HA.out.2.2.2.2.2.2.1
    have G8 := Lib.hid HA.out.2.2.2.2.2.2.2.1
    have G9 := Lib.hid HA.out.2.2.2.2.2.2.2.2
    clear HA
    unfold Jv at G6 G7 G9
    go_wp2_with fail
    refine (G1.out _).mono ?_
    rintro e w2 ⟨ax, cx, rfl, hrx, hcx, hb2⟩
    have H2 : Hid (Below (w.heap.size + 1) W0 w2) := Lib.hid (H1.out.trans (hb2.mono (by have := H1.out.size; have := hW0.out; omega)))
    have HRX := Lib.hid hrx
    clear hrx hcx hb2 H1
    go_wp2_with fail
    have hs5 : (w2.alloc (.cells #[.bool (neg x), .slice ax (E 10 x.natAbs).length cx] 28)).cell? ⟨w2.heap.size, 0, none⟩ = some (.bool (neg x)) ∧ (w2.alloc (.cells #[.bool (neg x), .slice ax (E 10 x.natAbs).length cx] 28)).cell? ⟨w2.heap.size, 1, none⟩ = some (.slice ax (E 10 x.natAbs).length cx) :=
      ⟨by rw [World.cell?_alloc_at _ _ _ _ rfl]; rfl, by rw [World.cell?_alloc_at _ _ _ _ rfl]; rfl⟩
    have hb5 : Below w2.heap.size w2 (w2.alloc (.cells #[.bool (neg x), .slice ax (E 10 x.natAbs).length cx] 28)) := (Below.refl _ w2).alloc (Nat.le_refl _) _
    have hz5 : (w2.alloc (.cells #[.bool (neg x), .slice ax (E 10 x.natAbs).length cx] 28)).heap.size = w2.heap.size + 1 := by simp
    generalize w2.alloc (.cells #[.bool (neg x), .slice ax (E 10 x.natAbs).length cx] 28) = W5 at *
    have HX : Hid (∀ W, Below (w2.heap.size + 1) W5 W → Rb W ax (E 10 x.natAbs) ∧ Below w.heap.size w W) := Lib.hid fun W h =>
      have hb := hb5.trans (h.mono (Nat.le_succ _))
      ⟨HRX.out.go hb, (hnum.out _ (H2.out.trans (hb.mono (by have := H2.out.size; have := hW0.out; omega)))).2⟩
    have hS0 := (hnum.out W5 (H2.out.trans (hb5.mono (by have := H2.out.size; have := hW0.out; omega)))).1
    have hKL : Hid (w.heap.size < w2.heap.size + 1 ∧ w2.heap.size + 1 ≤ W5.heap.size) := Lib.hid ⟨by have := H2.out.size; have := hW0.out; omega, by omega⟩
    have hS5 := Lib.hid (And.intro hS0 (And.intro hs5.1 (And.intro hs5.2 (Below.refl (w2.heap.size + 1) W5))))
    clear hS0 hs5 hb5 hz5 HRX H2 hnum hW0
    generalize w2.heap.size = k0 at *
    generalize hnn : w.heap.size = n0 at *
    clear hnn
    generalize neg x = bx at *
    generalize (E 10 x.natAbs).length = lx at *
    refine (G2.out _).mono ?_
    rintro e u1 ⟨rfl, hu1⟩
    have hS6 := SB.keep hu1 hKL.out hS5.out
    clear hu1 hS5
    have HS6 := Lib.hid hS6
    obtain ⟨s0, s1, s2, _⟩ := hS6
    go_wp2_with fail
    refine (G3.out _).mono ?_
    rintro e u2 ⟨rfl, hu2⟩
    have hS7 := SB.keep hu2 hKL.out HS6.out
    clear hu2 s0 s1 s2 HS6
    have HS7 := Lib.hid hS7
    obtain ⟨s0, s1, s2, _⟩ := hS7
    go_wp2_with fail
    refine (G4.out _).mono ?_
    rintro e u3 ⟨rfl, hu3⟩
    have hS8 := SB.keep hu3 hKL.out HS7.out
    clear hu3 s0 s1 s2 HS7
    go_wp2_with fail
    go_region_held3 (fun w' => w'.cell? ⟨n0, 0, none⟩ = some (.bool ng) ∧ w'.cell? ⟨k0, 0, none⟩ = some (.bool bx) ∧ w'.cell? ⟨k0, 1, none⟩ = some (.slice ax lx cx) ∧ Below (k0 + 1) W5 w')
      (first | (with_reducible assumption) | (with_reducible exact SB.drew (by assumption)) | (with_reducible exact SB.keep (by assumption) hKL.out (by assumption)))
      (first | (go_at_call 32; (with_reducible refine (G5.out _).mono ?_); rintro e v1 ⟨rfl, g1⟩) | (go_at_call 33; (with_reducible refine (G6.out ax cx _ ?_).mono ?_); exact (HX.out _ (by assumption : _ ∧ _ ∧ _ ∧ Below _ _ _).2.2.2).1; rintro e v2 ⟨rfl, g2⟩) | (go_at_call 34; (with_reducible refine (G7.out ax cx _ ?_).mono ?_); exact (HX.out _ (by assumption : _ ∧ _ ∧ _ ∧ Below _ _ _).2.2.2).1; rintro e v3 ⟨rfl, g3⟩) | (go_at_call 35; (with_reducible refine (G8.out _).mono ?_); rintro e v4 ⟨a4, c4, rfl, q4, _, g4⟩) | (go_at_call 11; (with_reducible refine (G9.out a4 c4 _ q4).mono ?_); rintro e v5 ⟨rfl, g5⟩) | (go_at_call 8; refine (awake_any _).mono ?_; rintro e v6 ⟨rfl, g6⟩))
    have hfin := Lib.hid (HF.out v6 (HX.out v6 (by assumption : _ ∧ _ ∧ _ ∧ Below (k0 + 1) W5 v6).2.2.2).2)
    clear g1 g2 g3 g4 g5 g6 q4 G1 G2 G3 G4 G5 G6 G7 G8 G9 HX HF
    go_wp2
    exact hfin.out
end Go.Proofs.Ytmnopohjnbpinab
