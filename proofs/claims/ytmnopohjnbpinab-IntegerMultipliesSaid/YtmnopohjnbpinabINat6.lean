/-
  Helper: the walk of natural.divided.
-/
import Derived.Test.YtmnopohjnbpinabINat2
import Derived.Deep.LoopGhost
namespace Go.Proofs.Ytmnopohjnbpinab
open Go.RowKit
set_option linter.unusedVariables false

def CmpGe (w : World) (e : Ending) (w' : World) : Prop := ∃ c : Int, 0 ≤ c ∧ c ≤ 1 ∧ e = .returned (.int .i64 c) ∧ Below w.heap.size w w'
theorem compare_ge (m n : Nat) (a a' : Option Addr) (cap cap' : Nat) (w : World) (hx : Rb w a (E 10 m)) (hy : Rb w a' (E 10 n)) (hs : (E 10 m).length ≤ 1000000) (hs' : (E 10 n).length ≤ 1000000) (h : n ≤ m) :
    Calls Try.prog 70 #[.slice a (E 10 m).length cap, .slice a' (E 10 n).length cap'] w (CmpGe w) :=
  (compare_any m n a a' cap cap' w hx hy hs hs').mono fun e w' ⟨he, hb⟩ => ⟨cmpN m n, by unfold cmpN; rw [if_neg (by omega)]; split <;> omega, by unfold cmpN; rw [if_neg (by omega)]; split <;> omega, he, hb⟩
theorem compare_lt (m n : Nat) (a a' : Option Addr) (cap cap' : Nat) (w : World) (hx : Rb w a (E 10 m)) (hy : Rb w a' (E 10 n)) (hs : (E 10 m).length ≤ 1000000) (hs' : (E 10 n).length ≤ 1000000) (h : m < n) :
    Calls Try.prog 70 #[.slice a (E 10 m).length cap, .slice a' (E 10 n).length cap'] w fun e w' => e = .returned (.int .i64 (-1)) ∧ Below w.heap.size w w' :=
  (compare_any m n a a' cap cap' w hx hy hs hs').mono fun e w' ⟨he, hb⟩ => ⟨by rw [he]; unfold cmpN; rw [if_pos h], hb⟩

/-- two natural numbers come back -/
def DivP (u v : Nat) (w : World) (e : Ending) (w' : World) : Prop := ∃ a c a' c', e = .returned (.tuple #[.slice a (E 10 u).length c, .slice a' (E 10 v).length c']) ∧ Rb w' a (E 10 u) ∧ (E 10 u).length ≤ c ∧ Rb w' a' (E 10 v) ∧ (E 10 v).length ≤ c' ∧ Below w.heap.size w w'
theorem divP_of {u v : Nat} {w w' : World} {a a' : Option Addr} {cap l c' : Nat} (h : NatP u w (.returned (.slice a l cap)) w') (hr : Rb w' a' (E 10 v)) (hl : (E 10 v).length ≤ c') : DivP u v w (.returned (.tuple #[.slice a l cap, .slice a' (E 10 v).length c'])) w' := by
  obtain ⟨a', cap', he, h2, h3, _, h4⟩ := h
  cases he
  exact ⟨_, _, _, _, rfl, h2, h3, hr, hl, h4⟩
theorem E_len_ten (n k : Nat) (h : (E 10 n).length ≤ k) : (E 10 (10 * n)).length ≤ k + 1 := by
  have := (E_len_le 10 n k (by omega)).1 h
  refine (E_len_le 10 _ _ (by omega)).2 ?_
  rw [Nat.pow_succ]; omega
theorem set_getD (R : List UInt8) (i : Nat) (c : UInt8) (h : i < R.length) : (R.set i c).getD i 0 = c := by
  rw [List.getD_eq_getElem?_getD, List.getElem?_set_self h]; rfl
theorem set_same (R : List UInt8) (i : Nat) (h : R.getD i 0 = 0) : R.set i (UInt8.ofNat 0) = R := by
  by_cases hi : i < R.length
  · refine List.ext_getElem (by simp) fun j h1 h2 => ?_
    rw [List.getElem_set]
    split
    · rename_i e; subst e
      rw [List.getD_eq_getElem?_getD, List.getElem?_eq_getElem hi] at h
      exact h.symm
    · rfl
  · exact List.set_eq_of_length_le (by omega)
theorem set_set (R : List UInt8) (i : Nat) (c d : UInt8) : (R.set i c).set i d = R.set i d := List.set_set ..

set_option maxRecDepth 100000 in
set_option maxHeartbeats 4000000 in
theorem divided_any (m n : Nat) (hn : 0 < n) (a a' : Option Addr) (cap cap' : Nat) (w : World) (hx : Rb w a (E 10 m)) (hy : Rb w a' (E 10 n)) (hs : (E 10 m).length ≤ 90000) (hs' : (E 10 n).length ≤ 90000) :
    Calls Try.prog 72 #[.slice a (E 10 m).length cap, .slice a' (E 10 n).length cap'] w (DivP (m / n) (m % n) w) := by
  have HX := Lib.hid hx
  have HY := Lib.hid hy
  have HG : Hid (Dg 10 (E 10 m)) := dg_E 10 m (by omega) (by omega)
  have HV : Hid (vb 10 (E 10 m) = m) := vb_E 10 m (by omega) (by omega)
  have HP := Lib.hid (fun w' g e R hr hg hv hb hw a' c' hr' hl => divP_of (u := m / n) (v := m % n) (w := w) (w' := w') (a' := a') (c' := c') (natP_trim (w := w) (w' := w') (g := g) (e := e) (R := R) (v := m / n) hr hg hv hb hw) hr' hl)
  have HLN : Hid (∀ r, r ≤ 10 * n → (E 10 r).length ≤ 90001) := fun r h => Nat.le_trans (E_len_mono 10 _ _ (by omega) h) (E_len_ten n 90000 hs')
  have HLM : Hid (∀ r, r < n → (E 10 r).length ≤ 90000) := fun r h => Nat.le_trans (E_len_mono 10 _ _ (by omega) (Nat.le_of_lt h)) hs'
  clear hx hy
  generalize E 10 m = p at *
  generalize hlp : p.length = L at *
  have hlph := Lib.hid hlp
  clear hlp
  generalize hPo : DivP (m / n) (m % n) w = Po at *
  clear hPo
  go_enter Try.func72, Try.ntmps72
  go_wp2_with (at_make; refine make_bytes _ rfl _ _ 68 rfl Try.underlying68 _ _ L rfl rfl ?c1 ?c2 ?c3 ?_)
  case c1 => rfl
  case c2 => rfl
  case c3 => omega
  intro w1 hrow hb1
  generalize hgg : w.heap.size = g at *
  have hgh := Lib.hid hgg
  clear hgg
  go_wp2
  go_loopw [7, 15] (fun v i wr => ∃ (k j r : Nat) (ra : Option Addr) (rc : Nat) (R : List UInt8), k ≤ L ∧ i = .int .i64 k ∧ v = .slice ra (E 10 r).length rc ∧ Hid (k + j = L ∧ r = vb 10 (p.drop j) % n ∧ R.length = L ∧ Dg 10 R ∧ vb 10 (R.drop j) = vb 10 (p.drop j) / n ∧ ∀ i, i < j → R.getD i 0 = 0) ∧ Hid (Rb wr ra (E 10 r) ∧ (E 10 r).length ≤ rc) ∧ Row wr g 5 R ∧ Below g w wr) (fun _ i _ => L - (intOf i).toNat)
  case atStart =>
    refine ⟨0, L, 0, none, 0, List.replicate L 0, Nat.zero_le _, rfl, rfl, ⟨by omega, ?_, by simp, dg_zeros 10 _ (by omega), ?_, ?_⟩, ⟨Rb.nil _ _, by decide⟩, hrow, hb1⟩
    · rw [List.drop_eq_nil_of_le (by have := hlph.out; omega)]; simp [vb]
    · rw [List.drop_eq_nil_of_le (by simp), List.drop_eq_nil_of_le (by have := hlph.out; omega)]; simp [vb]
    · intro i hi; rw [List.getD_eq_getElem?_getD, List.getElem?_replicate_of_lt hi]; rfl
  case round =>
    clear hrow hb1
    obtain ⟨k, j, r, ra, rc, R, hk, rfl, rfl, HR, HRb, hrow, hbel⟩ := hrel
    by_cases hlt : k < L
    · obtain ⟨i, hi⟩ : ∃ i, j = i + 1 := ⟨j - 1, by have := HR.out.1; omega⟩
      rw [hi] at HR
      have hat : (L : Int) - 1 - (k : Int) = (i : Int) := by have := HR.out.1; omega
      have hi1 : (i : Int) < L := by have := HR.out.1; omega
      have hi0 : (0 : Int) ≤ i := by omega
      have hx := HX.out.below hbel (by have := hgh.out; omega)
      obtain ⟨b, off, rfl, hlt1, hc1⟩ := hx.at i (by have := HR.out.1; have := hlph.out; omega)
      have hx10 := dg_getD 10 (by omega) p HG.out i
      have hrn : r < n := by rw [HR.out.2.1]; exact Nat.mod_lt _ hn
      have HD := Lib.hid (divided_next p i n hn HG.out (by have := HR.out.1; have := hlph.out; omega))
      have HLR := HLM.out r hrn
      have HZ : Hid (R.getD i 0 = 0) := HR.out.2.2.2.2.2 i (by omega)
      clear hx hi
      rw [← HR.out.2.1] at HD
      generalize p.getD i 0 = c at *
      have hX := HD.out.1
      go_wp2_with fail
      refine (followed_any r c ra rc _ HRb.out.1 (by omega) hx10).mono ?_
      rintro e w2 ⟨fa, fc, rfl, hfr, hfl, hfb, hb2⟩
      have hgw := hrow.lt
      have hrow2 := hrow.go hb2 hgw
      have hbel2 : Below g w w2 := hbel.trans (hb2.mono (by omega))
      have HF : Hid (Rb w2 fa (E 10 (10 * r + c.toNat)) ∧ (E 10 (10 * r + c.toNat)).length ≤ fc ∧ ∀ ad, fa = some ad → ad.block ≠ g) := ⟨hfr, hfl, fun ad h => by have := hfb ad h; omega⟩
      have HROW := Lib.hid hrow2
      clear hrow hrow2 hbel hb2 hfr hfl hfb HRb HLR
      generalize hXX : 10 * r + c.toNat = X at *
      have hXh := Lib.hid hXX
      clear hXX
      go_wp2
      obtain ⟨wo, hwo⟩ : ∃ wo : World, wo = w2 := ⟨_, rfl⟩
      subst hwo
      go_loopg [7] 10 (fun gk v wr => ∃ (t s : Nat) (ra : Option Addr) (rc : Nat), t < 10 ∧ v = .slice ra (E 10 s).length rc ∧ Hid (t + gk = 10 ∧ s + t * n = X) ∧ Hid (Rb wr ra (E 10 s) ∧ (E 10 s).length ≤ rc ∧ ∀ ad, ra = some ad → ad.block ≠ g) ∧ Row wr g 5 (R.set i (UInt8.ofNat t)) ∧ Below g w wr)
      case atStart => exact ⟨0, X, fa, fc, by omega, rfl, ⟨by omega, by omega⟩, HF.out, by rw [set_same R i HZ.out]; exact HROW.out, hbel2⟩
      case round =>
        clear HF HROW hbel2
        obtain ⟨t, s, ra, rc, ht, rfl, HT, HRb, hrow, hbel⟩ := hrel
        have hsX : s ≤ X := by have := HT.out.2; omega
        have HLs := HLN.out s (by omega)
        by_cases hge : n ≤ s
        · go_wp2_with fail
          refine (compare_ge s n _ _ _ _ _ HRb.out.1 (HY.out.below hbel (by have := hgh.out; omega)) (by omega) (by omega) hge).mono ?_
          rintro e w3 ⟨cc, hc0, hc1, rfl, hb3⟩
          have hbel3 : Below g w w3 := hbel.trans (hb3.mono (by have := hrow.lt; omega))
          have hr3 := HRb.out.1.go hb3
          go_wp2_with fail
          refine (minus_any s n _ _ _ _ _ hr3 (HY.out.below hbel3 (by have := hgh.out; omega)) (by omega) hge).mono ?_
          rintro e w4 ⟨na, nc, rfl, hnr, hnl, hnb, hb4⟩
          have hgw := hrow.lt
          have hb34 : Below wr.heap.size wr w4 := hb3.trans (hb4.mono hb3.size)
          have hrow4 := hrow.go hb34 hgw
          have hbel4 : Below g w w4 := hbel.trans (hb34.mono (by omega))
          have hil : i < R.length := by have := HR.out.1; have := HR.out.2.2.1; omega
          have hcell := hrow4.cell i (by rw [List.length_set]; exact hil)
          rw [set_getD R i _ hil, toNat_ofNat t (by omega)] at hcell
          have hfree := hrow4.free i
          have hlt10 : t + 1 < 10 := by
            have h2 := HT.out.2
            by_cases h9 : t + 1 < 10
            · exact h9
            · exfalso
              have h3 : t = 9 := by omega
              rw [h3] at h2; omega
          have HSUM : Hid (s - n + (t + 1) * n = X) := by
            have h2 := HT.out.2
            show _ = _
            rw [Nat.add_mul]; omega
          have HN : Hid (Rb w4 na (E 10 (s - n)) ∧ (E 10 (s - n)).length ≤ nc ∧ ∀ ad, na = some ad → ad.block ≠ g) := ⟨hnr, hnl, fun ad h => by have := hnb ad h; have := hb3.size; omega⟩
          have HROW := Lib.hid hrow4
          clear hrow hrow4 hbel hbel3 hb3 hb4 hb34 hr3 hnr hnl hnb HRb HLs
          go_wp2
          go_roundg (gk - 1)
          case measure => have := HT.out.1; omega
          case rel => exact ⟨t + 1, s - n, na, nc, hlt10, rfl, ⟨by have := HT.out.1; omega, HSUM.out⟩, ⟨HN.out.1.store g i _ HN.out.2.2, HN.out.2⟩, by rw [← set_set R i (UInt8.ofNat t)]; exact HROW.out.put i (t + 1) _ (by rw [List.length_set]; exact hil) (by omega) (by omega), hbel4.setCell (Nat.le_refl _) _⟩
        · have hlt9 : s < n := by omega
          have hte : Hid (t = X / n ∧ s = X % n) := by
            have h2 := HT.out.2
            have h3 : X = n * t + s := by rw [Nat.mul_comm]; omega
            refine ⟨?_, ?_⟩
            · rw [h3, Nat.mul_add_div hn, Nat.div_eq_of_lt hlt9]; rfl
            · rw [h3, Nat.mul_add_mod, Nat.mod_eq_of_lt hlt9]
          have hHD := Lib.hid (HD.out.2.2 R (by rw [hlph.out]; exact HR.out.2.2.1) HR.out.2.2.2.2.1)
          have hHM := Lib.hid HD.out.2.1
          go_wp2_with fail
          refine (compare_lt s n _ _ _ _ _ HRb.out.1 (HY.out.below hbel (by have := hgh.out; omega)) (by omega) (by omega) hlt9).mono ?_
          rintro e w3 ⟨rfl, hb3⟩
          have hgw := hrow.lt
          have hrow3 := Lib.hid (hrow.go hb3 hgw)
          have hbel3 : Below g w w3 := hbel.trans (hb3.mono (by omega))
          have HN := Lib.hid (HRb.out.1.go hb3)
          clear hrow hbel hb3 HLs
          go_wp2
          go_roundw
          case rel => exact ⟨k + 1, i, s, ra, rc, R.set i (UInt8.ofNat t), by omega, by go_num, rfl, ⟨by have := HR.out.1; omega, by rw [hte.out.2]; exact hHM.out, by rw [List.length_set]; exact HR.out.2.2.1, dg_set 10 R HR.out.2.2.2.1 _ _ (by rw [toNat_ofNat _ (by omega)]; omega), by rw [hte.out.1]; exact hHD.out, fun j hj => by rw [List.getD_eq_getElem?_getD, List.getElem?_set_ne (by omega), ← List.getD_eq_getElem?_getD]; exact HR.out.2.2.2.2.2 j (by omega)⟩, ⟨HN.out, HRb.out.2.1⟩, hrow3.out, hbel3⟩
          case measure => simp [intOf]; omega
    · have hj : j = 0 := by have := HR.out.1; omega
      rw [hj, List.drop_zero, List.drop_zero, HV.out] at HR
      have hkl : (L : Int) ≤ k := by omega
      have hRL := HR.out.2.2.1
      have hrm := HR.out.2.1
      have HRb2 := HRb.out
      have hfin := HP.out _ _ _ R hrow HR.out.2.2.2.1 HR.out.2.2.2.2.1 hbel (Nat.le_refl _) ra rc
      rw [← hrm] at hfin
      have hfin2 := Lib.hid (hfin HRb2.1 HRb2.2)
      have hT := Lib.hid (trimmed_any R g 0 L _ (by omega) (by omega) hrow.rb HR.out.2.2.2.1)
      rw [hRL] at hfin2 hT
      clear hfin hrm HRb2 hRL HX HG HV HR hj
      go_wp2_with fail
      refine hT.out.mono ?_
      rintro e w' ⟨rfl, rfl⟩
      go_wp2
      exact hfin2.out
end Go.Proofs.Ytmnopohjnbpinab
