/-
  Helper: the walks of natural.plus, natural.minus and natural.followed.
-/
import Derived.Test.YtmnopohjnbpinabINat1
namespace Go.Proofs.Ytmnopohjnbpinab
open Go.RowKit
set_option linter.unusedVariables false

/-- a natural number comes back: its digits, in a slice of the call's own -/
def NatP (v : Nat) (w : World) (e : Ending) (w' : World) : Prop := ∃ a cap, e = .returned (.slice a (E 10 v).length cap) ∧ Rb w' a (E 10 v) ∧ (E 10 v).length ≤ cap ∧ (∀ ad, a = some ad → w.heap.size ≤ ad.block) ∧ Below w.heap.size w w'
theorem natP_trim {w w' : World} {g e : Nat} {R : List UInt8} {v : Nat} (hr : Row w' g e R) (hg : Dg 10 R) (hv : vb 10 R = v) (hb : Below w.heap.size w w') (hw : w.heap.size ≤ g) : NatP v w (.returned (.slice (some ⟨g, 0, none⟩) (E 10 (vb 10 R)).length R.length)) w' := by
  rw [hv]
  have he : E 10 v = R.take (E 10 v).length := by
    have hle : (E 10 v).length ≤ R.length := by
      have := vb_lt 10 R hg
      rw [hv] at this
      exact (E_len_le 10 v R.length (by omega)).2 this
    have hc := canon_take R hg
    rw [hv] at hc
    exact hc
  have hle : (E 10 v).length ≤ R.length := by rw [he, List.length_take]; omega
  exact ⟨_, _, rfl, by rw [he]; exact hr.rb.take _, hle, fun ad h => by cases h; exact hw, hb⟩

set_option maxRecDepth 100000 in
set_option maxHeartbeats 2000000 in
theorem plus_any (m n : Nat) (a a' : Option Addr) (cap cap' : Nat) (w : World) (hx : Rb w a (E 10 m)) (hy : Rb w a' (E 10 n)) (hs : (E 10 m).length ≤ 100000) (hs' : (E 10 n).length ≤ 100000) :
    Calls Try.prog 69 #[.slice a (E 10 m).length cap, .slice a' (E 10 n).length cap'] w (NatP (m + n) w) := by
  have HX := Lib.hid hx
  have HY := Lib.hid hy
  have HG : Hid (Dg 10 (E 10 m) ∧ Dg 10 (E 10 n)) := ⟨dg_E 10 m (by omega) (by omega), dg_E 10 n (by omega) (by omega)⟩
  have HV : Hid (vb 10 (E 10 m) = m ∧ vb 10 (E 10 n) = n) := ⟨vb_E 10 m (by omega) (by omega), vb_E 10 n (by omega) (by omega)⟩
  have HP := Lib.hid (fun w' g e R hr hg hv hb hw => natP_trim (w := w) (w' := w') (g := g) (e := e) (R := R) (v := m + n) hr hg hv hb hw)
  clear hx hy
  generalize E 10 m = p at *
  generalize E 10 n = q at *
  obtain ⟨L, hL1, hL2, hL3, HL⟩ : ∃ L : Nat, p.length ≤ L ∧ q.length ≤ L ∧ L ≤ 100000 ∧ Hid (L = max p.length q.length) := ⟨max p.length q.length, by omega, by omega, by omega, rfl⟩
  generalize hlp : p.length = lp at *
  generalize hlq : q.length = lq at *
  have hlph := Lib.hid hlp
  have hlqh := Lib.hid hlq
  clear hlp hlq
  generalize hPo : NatP (m + n) w = Po at *
  clear hPo
  go_enter Try.func69, Try.ntmps69
  go_wp2_with (at_make; refine make_bytes _ rfl _ _ 68 rfl Try.underlying68 _ _ (L + 1) rfl rfl ?c1 ?c2 ?c3 ?_)
  case c1 => have := HL.out; omega
  case c2 => have := HL.out; omega
  case c3 => omega
  intro w1 hrow hb1
  generalize hgg : w.heap.size = g at *
  have hgh := Lib.hid hgg
  clear hgg
  go_wp2
  go_loopw [6, 18] (fun c i wr => ∃ (k d : Nat) (R : List UInt8), k ≤ L + 1 ∧ d < 2 ∧ i = .int .i64 k ∧ c = .int .i64 d ∧ Hid (R.length = L + 1 ∧ Dg 10 R ∧ vb 10 (R.take k) + 10 ^ k * d = vb 10 (p.take k) + vb 10 (q.take k)) ∧ Row wr g 5 R ∧ Below g w wr) (fun _ i _ => L + 1 - (intOf i).toNat)
  case atStart => exact ⟨0, 0, List.replicate (L + 1) 0, Nat.zero_le _, by omega, rfl, rfl, ⟨by simp, dg_zeros 10 _ (by omega), by simp [vb]⟩, hrow, hb1⟩
  case round =>
    clear hrow hb1
    obtain ⟨k, d, R, hk, hd, rfl, rfl, HR, hrow, hbel⟩ := hrel
    by_cases hlt : k < L + 1
    · have hx := HX.out.below hbel (by have := hgh.out; omega)
      have hy := HY.out.below hbel (by have := hgh.out; omega)
      have A1 := Lib.hid (at_of p lp hlph.out a cap _ (by omega) hx k (by omega))
      have A2 := Lib.hid (at_of q lq hlqh.out a' cap' _ (by omega) hy k (by omega))
      have hx10 := dg_getD 10 (by omega) p HG.out.1 k
      have hy10 := dg_getD 10 (by omega) q HG.out.2 k
      have HS := Lib.hid (plus_step R p q k d (by have := HR.out.1; omega) HR.out.2.2 _ rfl)
      have hcell := hrow.cell k (by have := HR.out.1; omega)
      have hfree := hrow.free k
      have HROW := Lib.hid hrow
      clear hx hy hrow
      generalize (p.getD k 0).toNat = x at *
      generalize (q.getD k 0).toNat = y at *
      go_wp2_with fail
      refine A1.out.mono ?_
      rintro e w' ⟨rfl, rfl⟩
      go_wp2_with fail
      refine A2.out.mono ?_
      rintro e w' ⟨rfl, rfl⟩
      go_wp2
      go_roundw
      case rel => exact ⟨k + 1, (x + y + d) / 10, R.set k (UInt8.ofNat ((x + y + d) % 10)), by omega, by omega, by go_num, by go_num, ⟨by rw [List.length_set]; exact HR.out.1, dg_set 10 R HR.out.2.1 _ _ (by rw [toNat_ofNat _ (by omega)]; omega), HS.out⟩, HROW.out.put k _ _ (by have := HR.out.1; omega) (by omega) (by omega), hbel.setCell (Nat.le_refl _) _⟩
      case measure => simp [intOf]; omega
    · have hke : k = L + 1 := by omega
      have hRL := HR.out.1
      have hR2 := HR.out.2.2
      rw [hke] at hR2
      have hkl : (L : Int) + 1 ≤ k := by omega
      have hv := plus_end R p q L d HG.out.1 HG.out.2 hRL (by have := hlph.out; omega) (by have := hlqh.out; omega) hR2
      rw [HV.out.1, HV.out.2] at hv
      have hfin := Lib.hid (HP.out _ _ _ R hrow HR.out.2.1 hv hbel (Nat.le_refl _))
      have hT := Lib.hid (trimmed_any R g 0 (L + 1) _ (by omega) (by omega) hrow.rb HR.out.2.1)
      rw [hRL] at hfin hT
      clear hRL hv HX HY HG HV hke hR2
      go_wp2_with fail
      refine hT.out.mono ?_
      rintro e w' ⟨rfl, rfl⟩
      go_wp2
      exact hfin.out

theorem minus_num (x y b : Nat) (hx : x < 10) (hy : y < 10) (hb : b < 2) : (∃ d b' : Nat, d < 10 ∧ b' < 2 ∧ y + b + d = x + 10 * b' ∧ ((b' = 0 ∧ y + b ≤ x ∧ d = x - y - b) ∨ (b' = 1 ∧ x < y + b ∧ d = x + 10 - y - b))) := by
  by_cases h : y + b ≤ x
  · exact ⟨x - y - b, 0, by omega, by omega, by omega, .inl ⟨rfl, h, rfl⟩⟩
  · exact ⟨x + 10 - y - b, 1, by omega, by omega, by omega, .inr ⟨rfl, by omega, rfl⟩⟩
set_option maxRecDepth 100000 in
set_option maxHeartbeats 2000000 in
theorem minus_any (m n : Nat) (a a' : Option Addr) (cap cap' : Nat) (w : World) (hx : Rb w a (E 10 m)) (hy : Rb w a' (E 10 n)) (hs : (E 10 m).length ≤ 100000) (hmn : n ≤ m) :
    Calls Try.prog 62 #[.slice a (E 10 m).length cap, .slice a' (E 10 n).length cap'] w (NatP (m - n) w) := by
  have HX := Lib.hid hx
  have HY := Lib.hid hy
  have HG : Hid (Dg 10 (E 10 m) ∧ Dg 10 (E 10 n)) := ⟨dg_E 10 m (by omega) (by omega), dg_E 10 n (by omega) (by omega)⟩
  have HV : Hid (vb 10 (E 10 m) = m ∧ vb 10 (E 10 n) = n) := ⟨vb_E 10 m (by omega) (by omega), vb_E 10 n (by omega) (by omega)⟩
  have HP := Lib.hid (fun w' g e R hr hg hv hb hw => natP_trim (w := w) (w' := w') (g := g) (e := e) (R := R) (v := m - n) hr hg hv hb hw)
  have hle := E_len_mono 10 n m (by omega) hmn
  clear hx hy
  generalize E 10 m = p at *
  generalize E 10 n = q at *
  generalize hlp : p.length = lp at *
  generalize hlq : q.length = lq at *
  have hlph := Lib.hid hlp
  have hlqh := Lib.hid hlq
  clear hlp hlq
  generalize hPo : NatP (m - n) w = Po at *
  clear hPo
  go_enter Try.func62, Try.ntmps62
  go_wp2_with (at_make; refine make_bytes _ rfl _ _ 68 rfl Try.underlying68 _ _ lp rfl rfl ?c1 ?c2 ?c3 ?_)
  case c1 => rfl
  case c2 => rfl
  case c3 => omega
  intro w1 hrow hb1
  generalize hgg : w.heap.size = g at *
  have hgh := Lib.hid hgg
  clear hgg
  go_wp2
  go_loopw [6, 14] (fun c i wr => ∃ (k d : Nat) (R : List UInt8), k ≤ lp ∧ d < 2 ∧ i = .int .i64 k ∧ c = .int .i64 d ∧ Hid (R.length = lp ∧ Dg 10 R ∧ vb 10 (R.take k) + vb 10 (q.take k) = vb 10 (p.take k) + 10 ^ k * d) ∧ Row wr g 5 R ∧ Below g w wr) (fun _ i _ => lp - (intOf i).toNat)
  case atStart => exact ⟨0, 0, List.replicate lp 0, Nat.zero_le _, by omega, rfl, rfl, ⟨by simp, dg_zeros 10 _ (by omega), by simp [vb]⟩, hrow, hb1⟩
  case round =>
    clear hrow hb1
    obtain ⟨k, d, R, hk, hd, rfl, rfl, HR, hrow, hbel⟩ := hrel
    by_cases hlt : k < lp
    · have hx := HX.out.below hbel (by have := hgh.out; omega)
      have hy := HY.out.below hbel (by have := hgh.out; omega)
      have A1 := Lib.hid (at_of p lp hlph.out a cap _ (by omega) hx k (by omega))
      have A2 := Lib.hid (at_of q lq hlqh.out a' cap' _ (by omega) hy k (by omega))
      have hx10 := dg_getD 10 (by omega) p HG.out.1 k
      have hy10 := dg_getD 10 (by omega) q HG.out.2 k
      obtain ⟨e0, d', he10, hd2, hsum, hcase⟩ := minus_num _ _ d hx10 hy10 hd
      have HS := Lib.hid (minus_step R p q k d (by have := HR.out.1; omega) HR.out.2.2 e0 d' he10 hsum)
      have hcell := hrow.cell k (by have := HR.out.1; omega)
      have hfree := hrow.free k
      have HROW := Lib.hid hrow
      clear hx hy hrow hsum
      generalize (p.getD k 0).toNat = x at *
      generalize (q.getD k 0).toNat = y at *
      rcases hcase with ⟨hd0, hge, he⟩ | ⟨hd0, hge, he⟩
      all_goals
        have hd0h := Lib.hid hd0
        have heh := Lib.hid he
        clear hd0 he
        go_wp2_with fail
        refine A1.out.mono ?_
        rintro e w' ⟨rfl, rfl⟩
        go_wp2_with fail
        refine A2.out.mono ?_
        rintro e w' ⟨rfl, rfl⟩
        go_wp2
        go_roundw
        case rel => exact ⟨k + 1, d', R.set k (UInt8.ofNat e0), by omega, by omega, by go_num, by (rw [hd0h.out]; rfl), ⟨by rw [List.length_set]; exact HR.out.1, dg_set 10 R HR.out.2.1 _ _ (by rw [toNat_ofNat _ (by omega)]; omega), HS.out⟩, HROW.out.put k _ _ (by have := HR.out.1; omega) (by omega) (by have := heh.out; omega), hbel.setCell (Nat.le_refl _) _⟩
        case measure => simp [intOf]; omega
    · have hke : k = lp := by omega
      have hRL := HR.out.1
      have hR2 := HR.out.2.2
      rw [hke, ← hlph.out] at hR2
      have hkl : (lp : Int) ≤ k := by omega
      have hv := minus_end R p q d HR.out.2.1 (by have := hlph.out; omega) (by have := hlph.out; have := hlqh.out; omega) (by rw [HV.out.1, HV.out.2]; exact hmn) hR2
      rw [HV.out.1, HV.out.2] at hv
      have hfin := Lib.hid (HP.out _ _ _ R hrow HR.out.2.1 hv hbel (Nat.le_refl _))
      have hT := Lib.hid (trimmed_any R g 0 lp _ (by omega) (by omega) hrow.rb HR.out.2.1)
      rw [hRL] at hfin hT
      clear hRL hv HX HY HG HV hke hR2
      go_wp2_with fail
      refine hT.out.mono ?_
      rintro e w' ⟨rfl, rfl⟩
      go_wp2
      exact hfin.out

set_option maxRecDepth 100000 in
set_option maxHeartbeats 2000000 in
theorem followed_any (n : Nat) (x : UInt8) (a : Option Addr) (cap : Nat) (w : World) (hr : Rb w a (E 10 n)) (hs : (E 10 n).length ≤ 100000) (hx : x.toNat < 10) :
    Calls Try.prog 82 #[.slice a (E 10 n).length cap, .int .u8 (x.toNat : Int)] w (NatP (10 * n + x.toNat) w) := by
  have HX := Lib.hid hr
  have HC := Lib.hid (cons_E n x hx)
  have HP := Lib.hid (fun w' g e R hr hg hv hb hw => natP_trim (w := w) (w' := w') (g := g) (e := e) (R := R) (v := 10 * n + x.toNat) hr hg hv hb hw)
  clear hr
  generalize E 10 n = p at *
  generalize hlp : p.length = lp at *
  have hlph := Lib.hid hlp
  clear hlp
  generalize hPo : NatP (10 * n + x.toNat) w = Po at *
  clear hPo
  go_enter Try.func82, Try.ntmps82
  go_wp2_with (at_make; refine make_bytes _ rfl _ _ 68 rfl Try.underlying68 _ _ (lp + 1) rfl rfl ?c1 ?c2 ?c3 ?_)
  case c1 => omega
  case c2 => omega
  case c3 => omega
  intro w1 hrow hb1
  generalize hgg : w.heap.size = g at *
  have hgh := Lib.hid hgg
  clear hgg
  have hfree := hrow.free 0
  have hcell := hrow.cell 0 (by simp)
  have hrow2 := Lib.hid (hrow.set 0 x (by simp))
  have hb2 : Below g w (w1.setCell ⟨g, 0, none⟩ (.int .u8 (x.toNat : Int))) := hb1.setCell (Nat.le_refl _) _
  clear hrow
  have HF : Hid (((List.replicate (lp + 1) (0 : UInt8)).set 0 x).take 1 ++ (p ++ ((List.replicate (lp + 1) (0 : UInt8)).set 0 x).drop (1 + p.length)) = x :: p) := by
    show _ = _
    rw [List.replicate_succ, List.set_cons_zero, List.take_succ_cons, List.take_zero, List.drop_eq_nil_of_le (by have := hlph.out; simp; omega)]; simp
  have HRb := Lib.hid (HX.out.below (hb1.setCell (Nat.le_refl g) (p := ⟨g, 0, none⟩) (.int .u8 (x.toNat : Int))) (by have := hgh.out; omega))
  have HRL : Hid (((List.replicate (lp + 1) (0 : UInt8)).set 0 x).length = lp + 1) := by show _ = _; simp
  generalize (List.replicate (lp + 1) (0 : UInt8)).set 0 x = R at *
  have HE : Hid (∀ w2, Row w2 g 5 (R.take 1 ++ (p ++ R.drop (1 + p.length))) → Below g w w2 → Po (.returned (.slice (some ⟨g, 0, none⟩) (E 10 (vb 10 (x :: p))).length (lp + 1))) w2 ∧ Calls Try.prog 68 #[.slice (some ⟨g, 0, none⟩) (lp + 1) (lp + 1)] w2 fun e w' => e = .returned (.slice (some ⟨g, 0, none⟩) (E 10 (vb 10 (x :: p))).length (lp + 1)) ∧ w2 = w') := fun w2 hr hb => by
    rw [HF.out] at hr
    have hlen : (x :: p).length = lp + 1 := by rw [List.length_cons, hlph.out]
    have h1 := HP.out w2 g _ _ hr HC.out.2 HC.out.1 hb (Nat.le_refl _)
    have h2 := trimmed_any _ g 0 (lp + 1) w2 (by omega) (by omega) hr.rb HC.out.2
    rw [hlen] at h1 h2
    exact ⟨h1, h2⟩
  generalize (E 10 (vb 10 (x :: p))).length = r at *
  clear HF HC HP HX
  by_cases h0 : lp ≤ 0
  · go_wp2_with ((with_reducible show wpList _ _ _ _ _ _); refine copy_bytes rfl (.tmp 14) (.tmp 15) 68 68 rfl Try.underlying68 _ _ _ _ _ _ rfl rfl g 1 R p hrow2 ?n1 ?n2 ?n3 g w hb2 (Nat.le_refl _) ?_)
    case n1 => (have := hlph.out; rw [this, show lp = 0 by omega]; rfl)
    case n2 => (intro hp; have := hlph.out; omega)
    case n3 => have := hlph.out; have := HRL.out; omega
    intro w2 hr2 hb3
    have HE2 := Lib.hid (HE.out w2 hr2.out hb3)
    clear HE
    go_wp2_with fail
    refine HE2.out.2.mono ?_
    rintro e w' ⟨rfl, rfl⟩
    go_wp2
    exact HE2.out.1
  · go_wp2_with ((with_reducible show wpList _ _ _ _ _ _); refine copy_bytes rfl (.tmp 14) (.tmp 15) 68 68 rfl Try.underlying68 _ _ _ _ _ _ rfl rfl g 1 R p hrow2 ?m1 ?m2 ?m3 g w hb2 (Nat.le_refl _) ?_)
    case m1 => (have := hlph.out; rw [this]; simp)
    case m2 => first | exact fun _ => HRb.out | exact fun _ => ⟨rfl, HRb.out⟩
    case m3 => have := hlph.out; have := HRL.out; omega
    intro w2 hr2 hb3
    have HE2 := Lib.hid (HE.out w2 hr2.out hb3)
    clear HE
    go_wp2_with fail
    refine HE2.out.2.mono ?_
    rintro e w' ⟨rfl, rfl⟩
    go_wp2
    exact HE2.out.1
end Go.Proofs.Ytmnopohjnbpinab
