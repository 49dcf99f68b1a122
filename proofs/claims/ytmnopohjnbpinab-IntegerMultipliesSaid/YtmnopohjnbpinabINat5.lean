/-
  Helper: the walk of natural.times.
-/
import Derived.Test.YtmnopohjnbpinabINat2
import Derived.IntWalk
namespace Go.Proofs.Ytmnopohjnbpinab
open Go.RowKit
set_option linter.unusedVariables false

theorem set_zero_above (R : List UInt8) (k i n : Nat) (c : UInt8) (hk : k < i) (h : ∀ j, i ≤ j → j < n → R.getD j 0 = 0) : ∀ j, i ≤ j → j < n → (R.set k c).getD j 0 = 0 := fun j h1 h2 => by
  rw [List.getD_eq_getElem?_getD, List.getElem?_set_ne (by omega), ← List.getD_eq_getElem?_getD]; exact h j h1 h2

set_option maxRecDepth 100000 in
set_option maxHeartbeats 4000000 in
theorem times_any (m n : Nat) (a a' : Option Addr) (cap cap' : Nat) (w : World) (hx : Rb w a (E 10 m)) (hy : Rb w a' (E 10 n)) (hs : (E 10 m).length ≤ 100000) (hs' : (E 10 n).length ≤ 100000) :
    Calls Try.prog 71 #[.slice a (E 10 m).length cap, .slice a' (E 10 n).length cap'] w (NatP (m * n) w) := by
  have HX := Lib.hid hx
  have HY := Lib.hid hy
  have HG : Hid (Dg 10 (E 10 m) ∧ Dg 10 (E 10 n)) := ⟨dg_E 10 m (by omega) (by omega), dg_E 10 n (by omega) (by omega)⟩
  have HV : Hid (vb 10 (E 10 m) = m ∧ vb 10 (E 10 n) = n) := ⟨vb_E 10 m (by omega) (by omega), vb_E 10 n (by omega) (by omega)⟩
  have HP := Lib.hid (fun w' g e R hr hg hv hb hw => natP_trim (w := w) (w' := w') (g := g) (e := e) (R := R) (v := m * n) hr hg hv hb hw)
  clear hx hy
  generalize E 10 m = p at *
  generalize E 10 n = q at *
  generalize hlp : p.length = L at *
  generalize hlq : q.length = M at *
  have hlph := Lib.hid hlp
  have hlqh := Lib.hid hlq
  clear hlp hlq
  generalize hPo : NatP (m * n) w = Po at *
  clear hPo
  go_enter Try.func71, Try.ntmps71
  go_wp2_with (at_make; refine make_bytes _ rfl _ _ 68 rfl Try.underlying68 _ _ (L + M) rfl rfl ?c1 ?c2 ?c3 ?_)
  case c1 => omega
  case c2 => omega
  case c3 => omega
  intro w1 hrow hb1
  generalize hgg : w.heap.size = g at *
  have hgh := Lib.hid hgg
  clear hgg
  go_wp2
  go_loopw [18] (fun i wr => ∃ (k : Nat) (R : List UInt8), k ≤ L ∧ i = .int .i64 k ∧ Hid (R.length = L + M ∧ Dg 10 R ∧ vb 10 R = vb 10 (p.take k) * vb 10 q ∧ ∀ j, k + M ≤ j → j < L + M → R.getD j 0 = 0) ∧ Row wr g 5 R ∧ Below g w wr) (fun i _ => L - (intOf i).toNat)
  case atStart => exact ⟨0, List.replicate (L + M) 0, Nat.zero_le _, rfl, ⟨by simp, dg_zeros 10 _ (by omega), by rw [vb_zeros 10 _ (fun c hc => List.eq_of_mem_replicate hc)]; simp [vb], fun j h1 h2 => by rw [List.getD_eq_getElem?_getD, List.getElem?_replicate_of_lt h2]; rfl⟩, hrow, hb1⟩
  case round =>
    clear hrow hb1
    obtain ⟨k, R, hk, rfl, HR, hrow, hbel⟩ := hrel
    by_cases hlt : k < L
    · obtain ⟨b, off, ha, hlt1, hc1⟩ := (HX.out.below hbel (by have := hgh.out; omega)).at k (by have := hlph.out; omega)
      have hx10 := dg_getD 10 (by omega) p HG.out.1 k
      have HC1 : Hid (∀ wr, Below g w wr → wr.cell? ⟨b, off + k, none⟩ = some (.int .u8 ((p.getD k 0).toNat : Int))) := fun wr hbe => by
        obtain ⟨b', off', ha', _, hc'⟩ := (HX.out.below hbe (by have := hgh.out; omega)).at k (by have := hlph.out; omega)
        rw [ha] at ha'
        simp only [Option.some.injEq, Addr.mk.injEq, and_true] at ha'
        obtain ⟨rfl, rfl⟩ := ha'
        exact hc'
      clear hc1
      have HO := Lib.hid (fun R c hk hc h0 h => times_outer R q p k c hk hc h0 h)
      subst ha
      generalize (p.getD k 0).toNat = x at *
      go_wp2
      go_loopw [7, 23] (fun c i wr => ∃ (j d : Nat) (R : List UInt8), j ≤ M ∧ d < 10 ∧ i = .int .i64 j ∧ c = .int .i64 d ∧ Hid (R.length = L + M ∧ Dg 10 R ∧ vb 10 R + 10 ^ (k + j) * d = vb 10 (p.take k) * vb 10 q + 10 ^ k * x * vb 10 (q.take j) ∧ ∀ j, k + M ≤ j → j < L + M → R.getD j 0 = 0) ∧ Row wr g 5 R ∧ Below g w wr) (fun _ i _ => M - (intOf i).toNat)
      case atStart => exact ⟨0, 0, R, Nat.zero_le _, by omega, rfl, rfl, ⟨HR.out.1, HR.out.2.1, by rw [HR.out.2.2.1]; simp [vb], HR.out.2.2.2⟩, hrow, hbel⟩
      case round =>
        clear hrow hbel HR
        obtain ⟨j, d, R, hj, hd, rfl, rfl, HR, hrow, hbel⟩ := hrel
        by_cases hlt2 : j < M
        · obtain ⟨b', off', rfl, hlt3, hc2⟩ := (HY.out.below hbel (by have := hgh.out; omega)).at j (by have := hlqh.out; omega)
          have hy10 := dg_getD 10 (by omega) q HG.out.2 j
          have hr10 := dg_getD 10 (by omega) R HR.out.2.1 (k + j)
          have hc1 := HC1.out _ hbel
          have HS := Lib.hid (times_inner R q _ x _ k j d (by have := HR.out.1; omega) HR.out.2.2.1 rfl)
          have hcell := hrow.cell (k + j) (by have := HR.out.1; omega)
          have hfree := hrow.free (k + j)
          have HROW := Lib.hid hrow
          clear hrow
          generalize (q.getD j 0).toNat = y at *
          generalize (R.getD (k + j) 0).toNat = z at *
          have hxy : x * y ≤ 9 * 9 := Nat.mul_le_mul (by omega) (by omega)
          have hxy1 : (x : Int) * (y : Int) ≤ 81 := by
            have : ((x * y : Nat) : Int) ≤ 81 := by omega
            push_cast at this; exact this
          have hxy0 : 0 ≤ (x : Int) * (y : Int) := Int.mul_nonneg (by omega) (by omega)
          have q1 : IntKind.i64.wrap ((k : Int) + (j : Int)) = (k : Int) + (j : Int) := IntWalk.i64_in _ (by omega)
          have q2 : 0 ≤ (k : Int) + (j : Int) := by omega
          have q3 : ((k : Int) + (j : Int)).toNat = k + j := by omega
          have q4 : IntKind.i64.wrap ((x : Int) * (y : Int)) = (x : Int) * (y : Int) := IntWalk.i64_in _ (by omega)
          have q5 : IntKind.i64.wrap ((z : Int) + (x : Int) * (y : Int)) = (z : Int) + (x : Int) * (y : Int) := IntWalk.i64_in _ (by omega)
          have q6 : IntKind.i64.wrap ((z : Int) + (x : Int) * (y : Int) + (d : Int)) = (z : Int) + (x : Int) * (y : Int) + (d : Int) := IntWalk.i64_in _ (by omega)
          go_wp2
          go_quiet (fail)
          clear q1 q3 q4 q5 q6
          go_wp2
          go_roundw
          case rel => exact ⟨j + 1, (z + x * y + d) / 10, R.set (k + j) (UInt8.ofNat ((z + x * y + d) % 10)), by omega, by omega, by go_num, by push_cast; rfl, ⟨by rw [List.length_set]; exact HR.out.1, dg_set 10 R HR.out.2.1 _ _ (by rw [toNat_ofNat _ (by omega)]; omega), HS.out, set_zero_above R _ _ _ _ (by omega) HR.out.2.2.2⟩, (show Row (World.drewN _ _) _ _ _ from HROW.out).put (k + j) _ _ (by have := HR.out.1; omega) (by omega) (by push_cast; first | rfl | omega), (Below.drewN hbel _).setCell (Nat.le_refl _) _⟩
          case measure => simp [intOf]; omega
        · have hje : j = M := by omega
          have hjl : (M : Int) ≤ j := by omega
          rw [hje, ← hlqh.out] at HR
          have HR2 := Lib.hid (HO.out R d (by have := HR.out.1; have := hlqh.out; omega) hd (HR.out.2.2.2 _ (by have := hlqh.out; omega) (by have := hlqh.out; omega)) HR.out.2.2.1)
          have HR3 := Lib.hid HR.out.2.2.2
          have HR4 := Lib.hid HR.out.2.1
          have HR1 := Lib.hid HR.out.1
          rw [hlqh.out] at HR1 HR2 HR3
          clear HR hje
          have hcell := hrow.cell (k + M) (by have := HR1.out; omega)
          have hfree := hrow.free (k + M)
          have HROW := Lib.hid hrow
          clear hrow
          go_wp2
          go_roundw
          case rel => exact ⟨k + 1, R.set (k + M) (UInt8.ofNat d), by omega, by go_num, ⟨by rw [List.length_set]; exact HR1.out, dg_set 10 R HR4.out _ _ (by rw [toNat_ofNat _ (by omega)]; omega), HR2.out, set_zero_above R _ _ _ _ (by omega) (fun j h1 h2 => HR3.out j (by omega) h2)⟩, HROW.out.put (k + M) d _ (by have := HR1.out; omega) (by omega) (by omega), hbel.setCell (Nat.le_refl _) _⟩
          case measure => simp [intOf]; omega
    · have hke : k = L := by omega
      have hkl : (L : Int) ≤ k := by omega
      have hRL := HR.out.1
      have hv := HR.out.2.2.1
      rw [hke, ← hlph.out, List.take_length, HV.out.1, HV.out.2] at hv
      have hfin := Lib.hid (HP.out _ _ _ R hrow HR.out.2.1 hv hbel (Nat.le_refl _))
      have hT := Lib.hid (trimmed_any R g 0 (L + M) _ (by omega) (by omega) hrow.rb HR.out.2.1)
      rw [hRL] at hfin hT
      clear hRL hv HX HY HG HV hke
      go_wp2_with fail
      refine hT.out.mono ?_
      rintro e w' ⟨rfl, rfl⟩
      go_wp2
      exact hfin.out
end Go.Proofs.Ytmnopohjnbpinab
