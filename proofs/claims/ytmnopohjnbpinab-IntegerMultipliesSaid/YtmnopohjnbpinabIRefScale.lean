/-
  Helper: the walk of the reference's Scale.
-/
import Derived.Test.YtmnopohjnbpinabIRefA
namespace Go.Proofs.Ytmnopohjnbpinab
open Go.RowKit
set_option linter.unusedVariables false

theorem trimP_row {w : World} {B n : Nat} {v : Value} {l : List UInt8} (h : w.ownsRow B 5 1 v n (bytes l)) (hs : l.length ≤ 1000000) (hg : Dg 10 l) :
    Calls Try.prog 49 #[v] w (TrimP l w) := by
  obtain ⟨a, cap, rfl, rfl, hl, hrb⟩ := rb_of_row h
  exact trimP_any l a cap w hs hl hrb hg
/-- a canonical list of digits comes back, in a world that has only grown -/
def CanP (v : Nat) (w : World) (e : Ending) (w' : World) : Prop := ∃ a cap, e = .returned (.slice a (E 10 v).length cap) ∧ Rb w' a (E 10 v) ∧ (E 10 v).length ≤ cap ∧ Below w.heap.size w w'
theorem scale_step (s p : List UInt8) (i f c a x : Nat) (hs : s.length = i) (h : vb 10 s + 10 ^ i * c = f * vb 10 (p.take i) + a) (hx : x = c + f * (p.getD i 0).toNat) :
    vb 10 (s ++ [UInt8.ofNat (x % 10)]) + 10 ^ (i + 1) * (x / 10) = f * vb 10 (p.take (i + 1)) + a :=
  scaled_step s p i f c a x hs h (by rw [hx]; rw [Nat.mul_comm f, Nat.add_comm])

set_option maxRecDepth 100000 in
set_option maxHeartbeats 4000000 in
theorem refScale_any (n f s0 : Nat) (hf : 1 ≤ f) (hf2 : f ≤ 256) (hs0 : s0 < 256) (a : Option Addr) (cap : Nat) (w : World) (hr : Rb w a (E 10 n)) (hs : (E 10 n).length ≤ 100000) :
    Calls Try.prog 43 #[.slice a (E 10 n).length cap, .int .i64 (f : Int), .int .i64 (s0 : Int)] w (CanP (f * n + s0) w) := by
  have HX := Lib.hid hr
  have HG : Hid (Dg 10 (E 10 n)) := dg_E 10 n (by omega) (by omega)
  have HV : Hid (vb 10 (E 10 n) = n) := vb_E 10 n (by omega) (by omega)
  have HP : Hid (∀ w' s e w'', vb 10 s = f * n + s0 → Below w.heap.size w w' → TrimP s w' e w'' → CanP (f * n + s0) w e w'') := Lib.hid fun w' s e w'' hv hb ht => by
    obtain ⟨rfl, a', c', rfl, h1, h2⟩ := ht
    rw [hv] at h1 h2 ⊢
    exact ⟨a', c', rfl, h1, h2, hb⟩
  clear hr
  generalize hVV : f * n + s0 = V at *
  have hVh := Lib.hid hVV
  clear hVV
  generalize E 10 n = p at *
  generalize hlp : p.length = L at *
  have hlph := Lib.hid hlp
  clear hlp
  generalize hPo : CanP V w = Po at *
  clear hPo
  go_enter Try.func43, Try.ntmps43
  go_wp2
  go_loopw [2, 7, 8] (fun c v i wr => ∃ (k d : Nat) (s : List UInt8), d ≤ 256 ∧ (k ≤ L ∨ k + d ≤ L + 256) ∧ i = .int .i64 k ∧ c = .int .i64 d ∧ Hid (s.length = k ∧ Dg 10 s ∧ vb 10 s + 10 ^ k * d = f * vb 10 (p.take k) + s0) ∧ wr.ownsRow w.heap.size 5 1 v k (bytes s) ∧ Below w.heap.size w wr) (fun c _ i _ => (L - (intOf i).toNat) * 300 + (intOf c).toNat)
  case atStart => exact ⟨0, s0, [], by omega, .inl (Nat.zero_le _), rfl, rfl, ⟨rfl, fun c hc => by simp at hc, by simp [vb]⟩, World.ownsRow_nil _ _ _ _, Below.refl _ _⟩
  case round =>
    obtain ⟨k, d, s, hd, hk, rfl, rfl, HR, hown, hbel⟩ := hrel
    have hg2 := hbel.size
    by_cases hlt : k < L
    · have hx := HX.out.below hbel (Nat.le_refl _)
      obtain ⟨b, off, rfl, hlt1, hc1⟩ := hx.at k (by have := hlph.out; omega)
      have hx10 := dg_getD 10 (by omega) p HG.out k
      have HS := Lib.hid (scale_step s p k f d s0 _ HR.out.1 HR.out.2.2 rfl)
      have HD := Lib.hid HR.out.2.1
      have HSL := Lib.hid HR.out.1
      clear hx HR HX HG HV HP hVh
      generalize (p.getD k 0).toNat = x at *
      have hxf : f * x ≤ 256 * 9 := Nat.mul_le_mul hf2 (by omega)
      have hxf1 : (f : Int) * (x : Int) ≤ 2304 := by have : ((f * x : Nat) : Int) ≤ 2304 := by omega
                                                     push_cast at this; exact this
      have hxf0 : 0 ≤ (f : Int) * (x : Int) := Int.mul_nonneg (by omega) (by omega)
      have hown1 := Lib.hid hown
      have hkL : (k : Int) < L := by omega
      clear hown
      go_wp2_with (at_builtin; refine append_byte rfl (.tmp 32) (.tmp 36) 26 rfl Try.underlying26 _ w.heap.size _ k s (UInt8.ofNat ((d + f * x) % 10)) rfl rfl hown1.out w hbel ?c4 ?c5 ?c6 ?_)
      case c4 => omega
      case c5 => omega
      case c6 => (rw [toNat_ofNat _ (by omega)]; push_cast; first | rfl | omega)
      intro v' w2 hown2 hb2 hsp2
      clear hsp2
      go_wp2
      go_roundw
      case rel => exact ⟨k + 1, (d + f * x) / 10, s ++ [UInt8.ofNat ((d + f * x) % 10)], by omega, .inl (by omega), by go_num, by push_cast; rfl, ⟨by rw [List.length_append, HSL.out]; rfl, dg_snoc 10 s HD.out _ (by rw [toNat_ofNat _ (by omega)]; omega), HS.out⟩, hown2, hb2⟩
      case measure =>
        have e : (intOf (Value.int IntKind.i64 (((d : Int) + f * x) / 10))).toNat ≤ 256 := by
          show (((d : Int) + f * x) / 10).toNat ≤ 256
          omega
        have e2 : (intOf (Value.int IntKind.i64 ((k : Int) + 1))).toNat = k + 1 := by show ((k : Int) + 1).toNat = k + 1; omega
        have e3 : (intOf (Value.int IntKind.i64 (k : Int))).toNat = k := by show (k : Int).toNat = k; omega
        rw [e2, e3]
        omega
    · have hlt' : (L : Int) ≤ k := by omega
      have hdc : decide ((k : Int) < L) = false := decide_eq_false (by omega)
      have hp0 : (p.getD k 0).toNat = 0 := by
        rw [List.getD_eq_getElem?_getD, List.getElem?_eq_none (by have := hlph.out; omega)]; rfl
      by_cases hd0 : 0 < d
      · have HS := Lib.hid (scale_step s p k f d s0 d HR.out.1 HR.out.2.2 (by rw [hp0]; rfl))
        have HD := Lib.hid HR.out.2.1
        have HSL := Lib.hid HR.out.1
        have hown1 := Lib.hid hown
        have hdi : (0 : Int) < d := by omega
        clear hown hp0 HR HX HG HV HP hVh
        go_wp2_with (at_builtin; refine append_byte rfl (.tmp 32) (.tmp 36) 26 rfl Try.underlying26 _ w.heap.size _ k s (UInt8.ofNat (d % 10)) rfl rfl hown1.out w hbel ?c4 ?c5 ?c6 ?_)
        case c4 => omega
        case c5 => omega
        case c6 => (rw [toNat_ofNat _ (by omega)]; push_cast; first | rfl | omega)
        intro v' w2 hown2 hb2 hsp2
        clear hsp2
        go_wp2
        go_roundw
        case rel => exact ⟨k + 1, d / 10, s ++ [UInt8.ofNat (d % 10)], by omega, .inr (by omega), by go_num, by push_cast; rfl, ⟨by rw [List.length_append, HSL.out]; rfl, dg_snoc 10 s HD.out _ (by rw [toNat_ofNat _ (by omega)]; omega), HS.out⟩, hown2, hb2⟩
        case measure =>
          have e1 : (intOf (Value.int IntKind.i64 ((d : Int) / 10))).toNat = d / 10 := by show ((d : Int) / 10).toNat = d / 10; omega
          have e2 : (intOf (Value.int IntKind.i64 ((k : Int) + 1))).toNat = k + 1 := by show ((k : Int) + 1).toNat = k + 1; omega
          have e3 : (intOf (Value.int IntKind.i64 (k : Int))).toNat = k := by show (k : Int).toNat = k; omega
          have e4 : (intOf (Value.int IntKind.i64 (d : Int))).toNat = d := by show (d : Int).toNat = d; omega
          rw [e1, e2, e3, e4]
          omega
      · obtain rfl : d = 0 := by omega
        have hv := HR.out.2.2
        rw [List.take_of_length_le (by have := hlph.out; omega), HV.out, hVh.out, Nat.mul_zero, Nat.add_zero] at hv
        have hT := Lib.hid (trimP_row hown (by have := HR.out.1; omega) HR.out.2.1)
        have hfin := Lib.hid (fun e w'' => HP.out _ s e w'' hv hbel)
        have hdi : decide (((0 : Nat) : Int) < 0) = false := by simp
        clear hv HR HX HG HV HP hVh hown hbel hp0
        go_wp2_with fail
        refine hT.out.mono ?_
        intro e w'' ht
        have hx := Lib.hid (hfin.out e w'' ht)
        obtain ⟨rfl, a', c', rfl, h1, h2⟩ := ht
        clear h1 h2
        go_wp2
        exact hx.out
end Go.Proofs.Ytmnopohjnbpinab
