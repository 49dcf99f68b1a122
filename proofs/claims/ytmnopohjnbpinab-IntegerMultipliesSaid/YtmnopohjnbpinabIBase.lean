/-
  Helper: the walks of slices.Clone at natural, natural.converted, natural.inBase.
-/
import Derived.Test.YtmnopohjnbpinabINat3
import Derived.Test.YtmnopohjnbpinabIRev
import Derived.WalkSpells
namespace Go.Proofs.Ytmnopohjnbpinab
open Go.RowKit
set_option linter.unusedVariables false

theorem rb_news {w w' : World} {ad : Addr} {l : List UInt8} (h : Rb w (some ad) l) (hb : Below w.heap.size w w') : ∀ j u, (bytes l)[j]? = some u → w'.cell? (ad.add j) = some u := by
  intro j u hu
  have hj : j < l.length := by
    have := (List.getElem?_eq_some_iff.1 hu).1
    rwa [bytes_len] at this
  obtain ⟨ad', he, hc⟩ := rb_src (h.go hb) (by omega)
  cases he
  exact hc j u hu
set_option maxHeartbeats 1000000 in
theorem clone_any (l : List UInt8) (a : Option Addr) (cap : Nat) (w : World) (hr : Rb w a l) (hs : l.length ≤ 1000000) :
    Calls Try.prog 73 #[.slice a l.length cap] w (BytP l w) := by
  cases a with
  | none =>
    have hl : l = [] := by
      rcases hr with h | ⟨b, off, h, _⟩
      · exact h
      · cases h
    subst hl
    have he := Lib.run_eql_slice_nil (P := Try.prog) w 68 5 none 0 cap 0 0 Try.underlying68
    go_enter Try.func73, Try.ntmps73
    go_wp2
    go_ret
    exact ⟨_, rfl, World.ownsRow_nil _ _ _ _, Below.refl _ _⟩
  | some ad =>
    have he := Lib.run_eql_slice_nil (P := Try.prog) w 68 5 (some ad) l.length cap 0 0 Try.underlying68
    have hown0 := World.ownsRow_lit (base := w.heap.size) (e := 5) (size := 1) w #[] 0 (Nat.le_refl _) (by unfold maxLen; omega) rfl
    have hb0 : Below w.heap.size w (w.alloc (.cells #[] 5)) := (Below.refl _ w).alloc (Nat.le_refl _) _
    have HN := Lib.hid (rb_news hr hb0)
    have HL : Hid ((bytes l).length = l.length * 1) := by show _ = _; rw [bytes_len, Nat.mul_one]
    have HO := Lib.hid (cells_one l)
    have HF : Hid (∀ v w', w'.ownsRow w.heap.size 5 1 v l.length (bytes l) → Below w.heap.size w w' → BytP l w (.returned v) w') := fun v w' h hb => ⟨v, rfl, h, hb⟩
    have HB := Lib.hid hown0
    clear hr hown0
    generalize hPo : BytP l w = Po at *
    clear hPo
    obtain ⟨i0, hi, hz0, hz1, hz2⟩ := info_parts info_u8
    generalize hbl : bytes l = bl at *
    clear hbl
    generalize hn : l.length = n at *
    clear hn
    go_enter Try.func73, Try.ntmps73
    go_wp2_with (at_builtin; refine wpList_append_own _ rfl (.tmp 5) (.tmp 6) 68 rfl w.heap.size 5 i0 (.int .u8 0) 1 1 Try.underlying68 hi hz0 hz1 hz2 rfl (by decide) _ _ _ rfl HB.out ad n cap bl rfl HL.out HN.out HO.out ?c1 ?c2 ?c3 ?_)
    case c1 => first | (unfold maxLen; omega) | omega
    case c2 => omega
    intro v' w1 hown1 hgr _
    have hb1 := hb0.grown hgr (by simp) (fun k hk => by simp [Value.ownBlock] at hk; omega)
    have hfin := Lib.hid (HF.out v' w1 hown1 hb1)
    clear hown1 hgr hb1
    go_wp2
    exact hfin.out

theorem Rb.spared {w w' : World} {a : Option Addr} {l : List UInt8} {v : Value} (h : Rb w a l) (hs : Spared w v w') (hn : ∀ ad, a = some ad → some ad.block ≠ v.ownBlock) : Rb w' a l :=
  h.kept hs.1 fun ad e hlt => hs.2 ad.block hlt (hn ad e)
theorem owns_go {w w' : World} {B C e n : Nat} {v : Value} {xs : List Value} (h : w.ownsRow B e 1 v n xs) (hb : Below C w w') (hC : w.heap.size ≤ C) : w'.ownsRow B e 1 v n xs := by
  refine ⟨h.1, ?_⟩
  rcases h.2 with h2 | ⟨g, cap, cur, h1, h2, h3, h4⟩
  · exact .inl h2
  · exact .inr ⟨g, cap, cur, h1, h2, (hb.block g (Nat.lt_of_lt_of_le (Array.getElem?_eq_some_iff.1 h3).1 hC)).trans h3, h4⟩

set_option maxRecDepth 100000 in
set_option maxHeartbeats 2000000 in
theorem converted_any (n b : Nat) (hb : 2 ≤ b) (hb2 : b ≤ 256) (a : Option Addr) (cap : Nat) (w : World) (hr : Rb w a (E 10 n)) (hs : (E 10 n).length ≤ 100000) (hsb : (E b n).length ≤ 1000000) :
    Calls Try.prog 74 #[.slice a (E 10 n).length cap, .int .i64 (b : Int)] w (BytP (E b n) w) := by
  have HF : Hid (∀ v w' s, w'.ownsRow w.heap.size 5 1 v s.length (bytes s) → s = E b n → Below w.heap.size w w' → BytP (E b n) w (.returned v) w') := fun v w' s h he hbe => by subst he; exact ⟨v, rfl, h, hbe⟩
  have HR := Lib.hid hr
  have HM : Hid (∀ m, m ≤ n → (E 10 m).length ≤ 100000) := fun m h => Nat.le_trans (E_len_mono 10 _ _ (by omega) h) hs
  have HN : Hid (∀ m, (E 10 m).length = 0 → m = 0) := fun m h => (E_nil 10 m (by omega)).1 (List.length_eq_zero_iff.1 h)
  clear hr hs
  generalize hPo : BytP (E b n) w = Po at *
  clear hPo
  go_enter Try.func74, Try.ntmps74
  go_wp2
  go_loopg [0, 5] n (fun gk q v wr => ∃ (m : Nat) (ra : Option Addr) (rc : Nat) (s : List UInt8), m ≤ gk ∧ q = .slice ra (E 10 m).length rc ∧ Hid (s ++ E b m = E b n ∧ m ≤ n) ∧ Rb wr ra (E 10 m) ∧ wr.ownsRow w.heap.size 5 1 v s.length (bytes s) ∧ Below w.heap.size w wr)
  case atStart => exact ⟨n, a, cap, [], Nat.le_refl _, rfl, ⟨rfl, Nat.le_refl _⟩, HR.out, World.ownsRow_nil _ _ _ _, Below.refl _ _⟩
  case round =>
    obtain ⟨m, ra, rc, s, hgk, rfl, HS, hrb, hown, hbel⟩ := hrel
    have hlm := HM.out m HS.out.2
    by_cases h0 : (E 10 m).length = 0
    · have hm0 := HN.out m h0
      have hse := HS.out.1
      rw [hm0, E_zero, List.append_nil] at hse
      have hfin := Lib.hid (HF.out _ _ s hown hse hbel)
      have hl0 : (E 10 m).length ≤ 0 := by omega
      clear h0 hse hm0 hown hrb
      generalize (E 10 m).length = lm at *
      go_wp2
      exact hfin.out
    · have hm0 : m ≠ 0 := by intro e; rw [e] at h0; exact h0 rfl
      have hl0 : 0 < (E 10 m).length := by omega
      have hP := Lib.hid (parted_any m b hb hb2 ra rc _ hrb hlm)
      have hown1 := Lib.hid hown
      have hmod : m % b < 256 := by have := Nat.mod_lt m (show 0 < b by omega); omega
      have hE := Lib.hid (E_snoc b m hb s hm0)
      have hdiv := Nat.div_lt_self (show 0 < m by omega) (show 1 < b by omega)
      have hsl : s.length ≤ 1000000 := by
        have := congrArg List.length HS.out.1
        rw [List.length_append] at this; omega
      have hm0h := Lib.hid hm0
      have hhs := hbel.size
      have hfresh : Hid (∀ k, u5.ownBlock = some k → k < wr.heap.size) := fun k hk => (hown1.out.lt k hk).2
      clear h0 hown hrb hm0
      go_wp2_with fail
      refine hP.out.mono ?_
      rintro e w2 ⟨na, nc, rfl, hnr, hnl, hnb, hb2'⟩
      have hown2 := Lib.hid (owns_go hown1.out hb2' (Nat.le_refl _))
      have hbel2 : Below w.heap.size w w2 := hbel.trans (hb2'.mono hhs)
      have hn2 : Hid (∀ ad, na = some ad → some ad.block ≠ u5.ownBlock) := fun ad e h => by
        have h1 := hnb ad e
        have h2 := hfresh.out ad.block h.symm
        omega
      have hs2 := hb2'.size
      have hnrh := Lib.hid hnr
      clear hbel hb2' hnr hnl hnb hP
      generalize m % b = d at *
      go_wp2_with (at_builtin; refine append_byte rfl (.tmp 17) (.tmp 20) 26 rfl Try.underlying26 _ w.heap.size _ s.length s (UInt8.ofNat d) rfl rfl hown2.out w hbel2 ?c1 ?c2 ?c3 ?_)
      case c1 => omega
      case c2 => omega
      case c3 => rw [toNat_ofNat _ (by omega)]
      intro v' w3 hown3 hb3 hsp
      have hnr3 := Lib.hid (hnrh.out.spared hsp hn2.out)
      clear hsp
      go_wp2
      go_roundg (m / b)
      case measure => omega
      case rel => exact ⟨m / b, na, nc, s ++ [UInt8.ofNat d], Nat.le_refl _, rfl, ⟨by rw [← hE.out]; exact HS.out.1, by have := HS.out.2; omega⟩, hnr3.out, by rw [List.length_append]; exact hown3, hb3⟩
end Go.Proofs.Ytmnopohjnbpinab
