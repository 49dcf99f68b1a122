/-
  Helper: the walk of natural.scaled.
-/
import Derived.Test.YtmnopohjnbpinabINat2
namespace Go.Proofs.Ytmnopohjnbpinab
open Go.RowKit
set_option linter.unusedVariables false

set_option maxRecDepth 100000 in
set_option maxHeartbeats 3000000 in
theorem scaled_any (n f s0 : Nat) (hf : 1 ≤ f) (hf2 : f ≤ 256) (hs0 : s0 < 256) (a : Option Addr) (cap : Nat) (w : World) (hr : Rb w a (E 10 n)) (hs : (E 10 n).length ≤ 100000) (hsV : (E 10 (f * n + s0)).length ≤ 100000) :
    Calls Try.prog 79 #[.slice a (E 10 n).length cap, .int .i64 (f : Int), .int .i64 (s0 : Int)] w (NatP (f * n + s0) w) := by
  have HX := Lib.hid hr
  have HG : Hid (Dg 10 (E 10 n)) := dg_E 10 n (by omega) (by omega)
  have HV : Hid (vb 10 (E 10 n) = n) := vb_E 10 n (by omega) (by omega)
  have HB := Lib.hid (scaled_big n f s0 (by omega))
  have HP : Hid (∀ w' s v m cap, w'.ownsRow w.heap.size 5 1 (.slice v m cap) m (bytes s) → s = E 10 (f * n + s0) → Below w.heap.size w w' → NatP (f * n + s0) w (.returned (.slice v m cap)) w') := fun w' s v m cap ho hs hb => by
    subst hs
    obtain ⟨a', cap', he, h1, h2, h3⟩ := rb_of_row ho
    have hlt := ho.lt
    cases he
    exact ⟨_, _, by rw [h1], h3, by omega, fun ad h => by subst h; exact (hlt _ rfl).1, hb⟩
  have HN : Hid (∀ s : List UInt8, 10 ^ s.length ≤ f * n + s0 → s.length < 100000) := fun s h => by
    have := (E_len_gt 10 (f * n + s0) s.length (by omega)).2 h
    omega
  clear hr hsV
  generalize hVV : f * n + s0 = V at *
  have hVh := Lib.hid hVV
  clear hVV
  generalize E 10 n = p at *
  generalize hlp : p.length = L at *
  have hlph := Lib.hid hlp
  clear hlp
  generalize hPo : NatP V w = Po at *
  clear hPo
  obtain ⟨i0, hi, hz0, hz1, hz2⟩ := info_parts info_u8
  go_enter Try.func79, Try.ntmps79
  go_wp2_with (at_make; refine wpList_make_own _ rfl _ _ 68 rfl w.heap.size 5 i0 (.int .u8 0) 1 Try.underlying68 hi hz0 hz1 .i64 .i64 _ _ rfl rfl rfl ?c1 ?c2 ?c3 ?_)
  case c1 => first | (rw [hz2]; omega) | omega
  case c2 => unfold maxLen; omega
  case c3 => exact Nat.le_refl _
  intro w1 hown hgr
  have hb1 : Below w.heap.size w w1 := (Below.refl _ w).grown hgr (Nat.le_refl _) (fun k hk => by cases hk)
  generalize hgg : w.heap.size = g at *
  have hgh := Lib.hid hgg
  clear hgg hgr
  go_wp2
  go_loopw [7, 8, 18] (fun v c i wr => ∃ (k d : Nat) (s : List UInt8), k ≤ L ∧ d ≤ 256 ∧ i = .int .i64 k ∧ c = .int .i64 d ∧ Hid (s.length = k ∧ Dg 10 s ∧ vb 10 s + 10 ^ k * d = f * vb 10 (p.take k) + s0) ∧ wr.ownsRow g 5 1 v k (bytes s) ∧ Below g w wr) (fun _ _ i _ => L - (intOf i).toNat)
  case atStart => exact ⟨0, s0, [], Nat.zero_le _, by omega, rfl, rfl, ⟨rfl, fun c hc => by simp at hc, by simp [vb]⟩, hown, hb1⟩
  case round =>
    clear hown hb1
    obtain ⟨k, d, s, hk, hd, rfl, rfl, HR, hown, hbel⟩ := hrel
    by_cases hlt : k < L
    · have hx := HX.out.below hbel (by have := hgh.out; omega)
      obtain ⟨b, off, rfl, hlt1, hc1⟩ := hx.at k (by have := hlph.out; omega)
      have hx10 := dg_getD 10 (by omega) p HG.out k
      have HS := Lib.hid (scaled_step s p k f d s0 _ HR.out.1 HR.out.2.2 rfl)
      clear hx
      generalize (p.getD k 0).toNat = x at *
      have hxf : x * f ≤ 9 * 256 := Nat.mul_le_mul (by omega) hf2
      have hxf1 : (x : Int) * (f : Int) ≤ 2304 := by have : ((x * f : Nat) : Int) ≤ 2304 := by omega
                                                     push_cast at this; exact this
      have hxf0 : 0 ≤ (x : Int) * (f : Int) := Int.mul_nonneg (by omega) (by omega)
      have hown1 := Lib.hid hown
      have hg1 : g ≤ w.heap.size := by have := hgh.out; omega
      have hg2 := hbel.size
      clear hown hi hz0 hz1 hz2
      go_wp2_with (at_builtin; refine append_byte rfl (.tmp 30) (.tmp 34) 68 rfl Try.underlying68 _ g _ k s (UInt8.ofNat ((x * f + d) % 10)) rfl rfl hown1.out w hbel ?c4 ?c5 ?c6 ?_)
      case c4 => omega
      case c5 => omega
      case c6 => (rw [toNat_ofNat _ (by omega)]; push_cast; first | rfl | omega)
      intro v' w2 hown2 hb2 hsp2
      clear hsp2
      go_wp2
      go_roundw
      case rel => exact ⟨k + 1, (x * f + d) / 10, s ++ [UInt8.ofNat ((x * f + d) % 10)], by omega, by omega, by go_num, by push_cast; rfl, ⟨by rw [List.length_append, HR.out.1]; rfl, dg_snoc 10 s HR.out.2.1 _ (by rw [toNat_ofNat _ (by omega)]; omega), HS.out⟩, hown2, hb2⟩
      case measure => simp [intOf]; omega
    · have hke : k = L := by omega
      have hkl : (L : Int) ≤ k := by omega
      have hv := HR.out.2.2
      rw [hke, ← hlph.out, List.take_length, HV.out, hVh.out, hlph.out, ← hke, ← HR.out.1] at hv
      have hs1 : Hid (Dg 10 s ∧ vb 10 s + 10 ^ s.length * d = V ∧ (s = [] ∨ 10 ^ (s.length - 1) ≤ V)) := ⟨HR.out.2.1, hv, by
        rcases HB.out with h | h
        · left
          have := hlph.out
          rw [h] at this
          simp at this
          exact List.eq_nil_of_length_eq_zero (by rw [HR.out.1]; omega)
        · by_cases h0 : L = 0
          · exact .inl (List.eq_nil_of_length_eq_zero (by rw [HR.out.1]; omega))
          · right; rw [HR.out.1, hke]; exact h⟩
      have hkk := Lib.hid HR.out.1
      have hkL : k ≤ 100000 := by omega
      have hg1 : g ≤ w.heap.size := by have := hgh.out; omega
      clear hv hke HR HX HB hi hz0 hz1 hz2 HV HG
      go_wp2_with fail
      go_loopw [7, 8] (fun v c wr => ∃ (d : Nat) (s : List UInt8), d ≤ 256 ∧ s.length ≤ 100000 ∧ c = .int .i64 d ∧ Hid (Dg 10 s ∧ vb 10 s + 10 ^ s.length * d = V ∧ (s = [] ∨ 10 ^ (s.length - 1) ≤ V)) ∧ wr.ownsRow g 5 1 v s.length (bytes s) ∧ Below g w wr) (fun _ c _ => (intOf c).toNat)
      case atStart => exact ⟨d, s, hd, by have := hkk.out; omega, rfl, hs1.out, by rw [hkk.out]; exact hown, hbel⟩
      case round =>
        clear hown hbel hs1 hkk
        obtain ⟨d, s, hd, hsl, rfl, HR, hown, hbel⟩ := hrel
        by_cases h0 : 0 < d
        · have hown1 := Lib.hid hown
          have hg2 := hbel.size
          have hbig := carry_big s V d h0 HR.out.2.1
          have hlen := HN.out s hbig
          have HS := Lib.hid (carry_step s V d HR.out.2.1)
          have hbigh := Lib.hid hbig
          clear hown hbig
          go_wp2_with (at_builtin; refine append_byte rfl (.tmp 41) (.tmp 45) 68 rfl Try.underlying68 _ g _ s.length s (UInt8.ofNat (d % 10)) rfl rfl hown1.out w hbel ?d4 ?d5 ?d6 ?_)
          case d4 => omega
          case d5 => omega
          case d6 => (rw [toNat_ofNat _ (by omega)]; push_cast; first | rfl | omega)
          intro v' w2 hown2 hb2 hsp2
          clear hsp2
          go_wp2
          go_roundw
          case rel => exact ⟨d / 10, s ++ [UInt8.ofNat (d % 10)], by omega, by rw [List.length_append]; simp; omega, by push_cast; rfl, ⟨dg_snoc 10 s HR.out.1 _ (by rw [toNat_ofNat _ (by omega)]; omega), by rw [List.length_append]; exact HS.out, .inr (by rw [List.length_append]; exact hbigh.out)⟩, by rw [List.length_append]; exact hown2, hb2⟩
          case measure => simp [intOf]; omega
        · have hd0 : d = 0 := by omega
          rw [hd0] at HR
          have hse := Lib.hid (scaled_end s V HR.out.1 HR.out.2.2 HR.out.2.1)
          have hdi : (d : Int) ≤ 0 := by omega
          obtain ⟨ad, cp, rfl⟩ := World.ownsRow.isSlice hown
          have hfin := Lib.hid (HP.out _ s ad s.length cp hown hse.out hbel)
          clear HR hd0 h0 hown
          go_wp2_with fail
          exact hfin.out
end Go.Proofs.Ytmnopohjnbpinab
