/-
  Helper: the walks of the reference's trim and short.
-/
import Derived.Test.YtmnopohjnbpinabINat3
namespace Go.Proofs.Ytmnopohjnbpinab
open Go.RowKit
set_option linter.unusedVariables false

set_option maxHeartbeats 1000000 in
theorem refTrim_any (l : List UInt8) (b off cap : Nat) (w : World) (hs : l.length ≤ 1000000) (hcap : l.length ≤ cap) (hr : Rb w (some ⟨b, off, none⟩) l) (hg : Dg 10 l) :
    Calls Try.prog 49 #[.slice (some ⟨b, off, none⟩) l.length cap] w fun e w' => e = .returned (.slice (some ⟨b, off, none⟩) (E 10 (vb 10 l)).length cap) ∧ w = w' := by
  have HX := Lib.hid (fun i hi => hr.at i hi)
  have HG : Hid (Dg 10 l) := hg
  have HE : Hid (∀ k, k ≤ l.length → (∀ j, k ≤ j → j < l.length → l.getD j 0 = 0) → (k = 0 ∨ l.getD (k - 1) 0 ≠ 0) → (E 10 (vb 10 l)).length = k) := fun k hk hz hl => by
    rw [← trim_at 10 (by omega) (by omega) l hg k hk hz hl, List.length_take]; omega
  clear hr hg
  generalize hn : l.length = n at *
  generalize hv : (E 10 (vb 10 l)).length = r at *
  clear hn hv
  go_enter Try.func49, Try.ntmps49
  go_wp2
  go_loop [3] (fun s => ∃ k : Nat, k ≤ n ∧ s = .int .i64 k ∧ Hid (∀ j, k ≤ j → j < n → l.getD j 0 = 0)) (fun s => (intOf s).toNat)
  case atStart => exact ⟨n, Nat.le_refl _, rfl, fun j h1 h2 => absurd h1 (by omega)⟩
  case round =>
    obtain ⟨k, hk, rfl, HZ⟩ := hrel
    by_cases hk0 : k = 0
    · subst hk0
      have hr0 := Lib.hid (HE.out 0 (Nat.zero_le _) HZ.out (.inl rfl))
      clear HE HX
      go_wp2
      go_ret
      rw [hr0.out]
      exact ⟨rfl, rfl⟩
    · obtain ⟨j, rfl⟩ : ∃ j, k = j + 1 := ⟨k - 1, by omega⟩
      obtain ⟨b', off', hb, hlt, hc⟩ := HX.out j (by omega)
      simp only [Option.some.injEq, Addr.mk.injEq, and_true] at hb
      obtain ⟨rfl, rfl⟩ := hb
      have e1 : ((j + 1 : Nat) : Int) - 1 = (j : Int) := by omega
      by_cases hz : l.getD j 0 = 0
      · have hd := u8_zero _ hz
        have HZ2 : Hid (∀ i, j ≤ i → i < n → l.getD i 0 = 0) := fun i h1 h2 => by
          by_cases e : i = j
          · rw [e]; exact hz
          · exact HZ.out i (by omega) h2
        clear hz HE HX HZ
        generalize l.getD j 0 = c at *
        go_wp2
        go_round
        case rel => exact ⟨j, by omega, by go_num, HZ2⟩
        case measure => simp [intOf]
      · have hd := u8_nz _ hz
        have hr0 := Lib.hid (HE.out (j + 1) hk HZ.out (.inr hz))
        clear hz HE HX HZ
        generalize l.getD j 0 = c at *
        go_wp2
        go_ret
        rw [hr0.out]
        exact ⟨rfl, rfl⟩

theorem quo_cast2 (r x d : Nat) (h : (10 * r + x) / d < 10) : ((10 : Int) * (r : Int) + (x : Int)) / (d : Int) % 256 = (((10 * r + x) / d : Nat) : Int) := by
  have := quo_cast r x d (by rw [Nat.mul_comm r 10]; exact h)
  rw [Int.mul_comm 10, Nat.mul_comm 10]; exact this
set_option maxRecDepth 100000 in
set_option maxHeartbeats 2000000 in
theorem refShort_any (n d : Nat) (hd : 2 ≤ d) (hd2 : d ≤ 256) (a : Option Addr) (cap : Nat) (w : World) (hr : Rb w a (E 10 n)) (hs : (E 10 n).length ≤ 100000) :
    Calls Try.prog 48 #[.slice a (E 10 n).length cap, .int .i64 (d : Int)] w (PartP n d w) := by
  have HX := Lib.hid hr
  have HG : Hid (Dg 10 (E 10 n)) := dg_E 10 n (by omega) (by omega)
  have HV : Hid (vb 10 (E 10 n) = n) := vb_E 10 n (by omega) (by omega)
  have HP := Lib.hid (fun w' g e R r hr hg hv hb hw hrr => partP_of (n := n) (d := d) (w := w) (w' := w') (r := r) (natP_trim (w := w) (w' := w') (g := g) (e := e) (R := R) (v := n / d) hr hg hv hb hw) hrr)
  clear hr
  generalize E 10 n = p at *
  generalize hlp : p.length = L at *
  have hlph := Lib.hid hlp
  clear hlp
  generalize hPo : PartP n d w = Po at *
  clear hPo
  go_enter Try.func48, Try.ntmps48
  go_wp2_with (at_make; refine make_bytes _ rfl _ _ 26 rfl Try.underlying26 _ _ L rfl rfl ?c1 ?c2 ?c3 ?_)
  case c1 => rfl
  case c2 => rfl
  case c3 => omega
  intro w1 hrow hb1
  generalize hgg : w.heap.size = g at *
  have hgh := Lib.hid hgg
  clear hgg
  go_wp2
  go_loopw [7, 8] (fun c i wr => ∃ (j r : Nat) (R : List UInt8), j ≤ L ∧ r < 256 ∧ i = .int .i64 ((j : Int) - 1) ∧ c = .int .i64 r ∧ Hid (r = vb 10 (p.drop j) % d ∧ R.length = L ∧ Dg 10 R ∧ vb 10 (R.drop j) = vb 10 (p.drop j) / d) ∧ Row wr g 5 R ∧ Below g w wr) (fun _ i _ => (intOf i + 1).toNat)
  case atStart =>
    refine ⟨L, 0, List.replicate L 0, by omega, by omega, rfl, rfl, ⟨?_, by simp, dg_zeros 10 _ (by omega), ?_⟩, hrow, hb1⟩
    · rw [List.drop_eq_nil_of_le (by have := hlph.out; omega)]; simp [vb]
    · rw [List.drop_eq_nil_of_le (by simp), List.drop_eq_nil_of_le (by have := hlph.out; omega)]; simp [vb]
  case round =>
    clear hrow hb1
    obtain ⟨j, r, R, hk, hrb, rfl, rfl, HR, hrow, hbel⟩ := hrel
    by_cases hj : j = 0
    · rw [hj, List.drop_zero, List.drop_zero, HV.out] at HR
      subst hj
      have hRL := HR.out.2.1
      have hfin := Lib.hid (HP.out _ _ _ R r hrow HR.out.2.2.1 HR.out.2.2.2 hbel (Nat.le_refl _) HR.out.1)
      have hT := Lib.hid (refTrim_any R g 0 L _ (by omega) (by omega) hrow.rb HR.out.2.2.1)
      rw [hRL] at hfin hT
      clear hRL HX HG HV HR
      go_wp2_with fail
      refine hT.out.mono ?_
      rintro e w' ⟨rfl, rfl⟩
      go_wp2
      exact hfin.out
    · obtain ⟨i, rfl⟩ : ∃ i, j = i + 1 := ⟨j - 1, by omega⟩
      rw [show ((i + 1 : Nat) : Int) - 1 = (i : Int) by omega]
      have hi1 : (i : Int) < L := by omega
      have hi0 : (0 : Int) ≤ i := by omega
      have hrd : r < d := by rw [HR.out.1]; exact Nat.mod_lt _ (by omega)
      have hx := HX.out.below hbel (by have := hgh.out; omega)
      obtain ⟨b, off, rfl, hlt1, hc1⟩ := hx.at i (by have := hlph.out; omega)
      have hx10 := dg_getD 10 (by omega) p HG.out i
      have HS := Lib.hid (parted_step p R i d (10 * r + (p.getD i 0).toNat) (by omega) hd2 (by have := hlph.out; omega) (by have := HR.out.2.1; have := hlph.out; omega) HG.out HR.out.2.2.2 (by rw [← HR.out.1]; omega))
      have hcell := hrow.cell i (by have := HR.out.2.1; omega)
      have hfree := hrow.free i
      have HROW := Lib.hid hrow
      clear hx hrow
      generalize (p.getD i 0).toNat = x at *
      have hq : (10 * r + x) / d < 10 := HS.out.1
      have hq2 : ((10 : Int) * (r : Int) + (x : Int)) / (d : Int) ≤ 9 := by
        have e : ((10 : Int) * (r : Int) + (x : Int)) / (d : Int) = (((10 * r + x) / d : Nat) : Int) := by push_cast; rfl
        rw [e]; omega
      go_wp2
      go_roundw
      case rel =>
        refine ⟨i, (10 * r + x) % d, R.set i (UInt8.ofNat ((10 * r + x) / d)), by omega, ?_, by go_num, by push_cast; rfl, ⟨HS.out.2.1, by rw [List.length_set]; exact HR.out.2.1, dg_set 10 R HR.out.2.2.1 _ _ (by rw [toNat_ofNat _ (by omega)]; omega), HS.out.2.2⟩, HROW.out.put i _ _ (by have := HR.out.2.1; omega) (by omega) (quo_cast2 r x d hq), hbel.setCell (Nat.le_refl _) _⟩
        have : (10 * r + x) % d < d := Nat.mod_lt _ (by omega)
        omega
      case measure => simp [intOf]
end Go.Proofs.Ytmnopohjnbpinab
