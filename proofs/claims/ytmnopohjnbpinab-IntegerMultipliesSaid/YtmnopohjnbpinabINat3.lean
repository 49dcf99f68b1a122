/-
  Helper: the walk of natural.parted.
-/
import Derived.Test.YtmnopohjnbpinabINat2
namespace Go.Proofs.Ytmnopohjnbpinab
open Go.RowKit
set_option linter.unusedVariables false

theorem quo_cast (r x d : Nat) (h : (r * 10 + x) / d < 10) : ((r : Int) * 10 + (x : Int)) / (d : Int) % 256 = (((r * 10 + x) / d : Nat) : Int) := by
  have e : ((r : Int) * 10 + (x : Int)) / (d : Int) = (((r * 10 + x) / d : Nat) : Int) := by push_cast; rfl
  rw [e]
  generalize (r * 10 + x) / d = q at *
  omega
def PartP (n d : Nat) (w : World) (e : Ending) (w' : World) : Prop := ∃ a cap, e = .returned (.tuple #[.slice a (E 10 (n / d)).length cap, .int .i64 ((n % d : Nat) : Int)]) ∧ Rb w' a (E 10 (n / d)) ∧ (E 10 (n / d)).length ≤ cap ∧ (∀ ad, a = some ad → w.heap.size ≤ ad.block) ∧ Below w.heap.size w w'
theorem partP_of {n d : Nat} {w w' : World} {a : Option Addr} {cap l r : Nat} (h : NatP (n / d) w (.returned (.slice a l cap)) w') (hr : r = n % d) : PartP n d w (.returned (.tuple #[.slice a l cap, .int .i64 (r : Int)])) w' := by
  obtain ⟨a', cap', he, h2, h3, h4, h5⟩ := h
  cases he
  exact ⟨_, _, by rw [hr], h2, h3, h4, h5⟩

set_option maxRecDepth 100000 in
set_option maxHeartbeats 2000000 in
theorem parted_any (n d : Nat) (hd : 2 ≤ d) (hd2 : d ≤ 256) (a : Option Addr) (cap : Nat) (w : World) (hr : Rb w a (E 10 n)) (hs : (E 10 n).length ≤ 100000) :
    Calls Try.prog 83 #[.slice a (E 10 n).length cap, .int .i64 (d : Int)] w (PartP n d w) := by
  have HX := Lib.hid hr
  have HG : Hid (Dg 10 (E 10 n)) := dg_E 10 n (by omega) (by omega)
  have HV : Hid (vb 10 (E 10 n) = n) := vb_E 10 n (by omega) (by omega)
  have HP := Lib.hid (fun w' g e R r hr hg hv hb hw hrr => partP_of (n := n) (d := d) (w := w) (w' := w') (r := r) (natP_trim (w := w) (w' := w') (g := g) (e := e) (R := R) (v := n / d) hr hg hv hb hw) hrr)
  clear hr
  generalize E 10 n = p at *
  generalize hlp : p.length = L at *
  have hlph := Lib.hid hlp
  clear hlp
  generalize hPo : PartP n d w = Po at *
  clear hPo
  go_enter Try.func83, Try.ntmps83
  go_wp2_with (at_make; refine make_bytes _ rfl _ _ 68 rfl Try.underlying68 _ _ L rfl rfl ?c1 ?c2 ?c3 ?_)
  case c1 => rfl
  case c2 => rfl
  case c3 => omega
  intro w1 hrow hb1
  generalize hgg : w.heap.size = g at *
  have hgh := Lib.hid hgg
  clear hgg
  go_wp2
  go_loopw [7, 16] (fun c i wr => ∃ (k j r : Nat) (R : List UInt8), k ≤ L ∧ r < 256 ∧ i = .int .i64 k ∧ c = .int .i64 r ∧ Hid (k + j = L ∧ r = vb 10 (p.drop j) % d ∧ R.length = L ∧ Dg 10 R ∧ vb 10 (R.drop j) = vb 10 (p.drop j) / d) ∧ Row wr g 5 R ∧ Below g w wr) (fun _ i _ => L - (intOf i).toNat)
  case atStart =>
    refine ⟨0, L, 0, List.replicate L 0, Nat.zero_le _, by omega, rfl, rfl, ⟨by omega, ?_, by simp, dg_zeros 10 _ (by omega), ?_⟩, hrow, hb1⟩
    · rw [List.drop_eq_nil_of_le (by have := hlph.out; omega)]; simp [vb]
    · rw [List.drop_eq_nil_of_le (by simp), List.drop_eq_nil_of_le (by have := hlph.out; omega)]; simp [vb]
  case round =>
    clear hrow hb1
    obtain ⟨k, j, r, R, hk, hrb, rfl, rfl, HR, hrow, hbel⟩ := hrel
    by_cases hlt : k < L
    · obtain ⟨i, hi⟩ : ∃ i, j = i + 1 := ⟨j - 1, by have := HR.out.1; omega⟩
      rw [hi] at HR
      have hat : (L : Int) - 1 - (k : Int) = (i : Int) := by have := HR.out.1; omega
      have hi1 : (i : Int) < L := by have := HR.out.1; omega
      have hi0 : (0 : Int) ≤ i := by omega
      have hrd : r < d := by rw [HR.out.2.1]; exact Nat.mod_lt _ (by omega)
      have hx := HX.out.below hbel (by have := hgh.out; omega)
      obtain ⟨b, off, rfl, hlt1, hc1⟩ := hx.at i (by have := HR.out.1; have := hlph.out; omega)
      have hx10 := dg_getD 10 (by omega) p HG.out i
      have HS := Lib.hid (parted_step p R i d (r * 10 + (p.getD i 0).toNat) (by omega) hd2 (by have := HR.out.1; have := hlph.out; omega) (by have := HR.out.2.2.1; have := hlph.out; omega) HG.out HR.out.2.2.2.2 (by rw [HR.out.2.1]))
      have hcell := hrow.cell i (by have := HR.out.1; have := HR.out.2.2.1; omega)
      have hfree := hrow.free i
      have HROW := Lib.hid hrow
      clear hx hrow hi
      generalize (p.getD i 0).toNat = x at *
      have hq : (r * 10 + x) / d < 10 := HS.out.1
      have hq2 : ((r : Int) * 10 + (x : Int)) / (d : Int) ≤ 9 := by
        have e : ((r : Int) * 10 + (x : Int)) / (d : Int) = (((r * 10 + x) / d : Nat) : Int) := by push_cast; rfl
        rw [e]; omega
      go_wp2
      go_roundw
      case rel =>
        refine ⟨k + 1, i, (r * 10 + x) % d, R.set i (UInt8.ofNat ((r * 10 + x) / d)), by omega, ?_, by go_num, by push_cast; rfl, ⟨by have := HR.out.1; omega, HS.out.2.1, by rw [List.length_set]; exact HR.out.2.2.1, dg_set 10 R HR.out.2.2.2.1 _ _ (by rw [toNat_ofNat _ (by omega)]; omega), HS.out.2.2⟩, HROW.out.put i _ _ (by have := HR.out.1; have := HR.out.2.2.1; omega) (by omega) (quo_cast r x d hq), hbel.setCell (Nat.le_refl _) _⟩
        have : (r * 10 + x) % d < d := Nat.mod_lt _ (by omega)
        omega
      case measure => simp [intOf]; omega
    · have hj : j = 0 := by have := HR.out.1; omega
      rw [hj, List.drop_zero, List.drop_zero, HV.out] at HR
      have hkl : (L : Int) ≤ k := by omega
      have hRL := HR.out.2.2.1
      have hfin := Lib.hid (HP.out _ _ _ R r hrow HR.out.2.2.2.1 HR.out.2.2.2.2 hbel (Nat.le_refl _) HR.out.2.1)
      have hT := Lib.hid (trimmed_any R g 0 L _ (by omega) (by omega) hrow.rb HR.out.2.2.2.1)
      rw [hRL] at hfin hT
      clear hRL HX HG HV HR hj
      go_wp2_with fail
      refine hT.out.mono ?_
      rintro e w' ⟨rfl, rfl⟩
      go_wp2
      exact hfin.out
end Go.Proofs.Ytmnopohjnbpinab
