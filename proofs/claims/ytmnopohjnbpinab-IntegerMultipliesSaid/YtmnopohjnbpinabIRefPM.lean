/-
  Helper: the walks of the reference's plus and minus.
-/
import Derived.Test.YtmnopohjnbpinabIRefScale
namespace Go.Proofs.Ytmnopohjnbpinab
open Go.RowKit
set_option linter.unusedVariables false

theorem plus2_step (s p q : List UInt8) (i c : Nat) (hi : s.length = i) (h : vb 10 s + 10 ^ i * c = vb 10 (p.take i) + vb 10 (q.take i)) (x : Nat) (hx : x = c + (p.getD i 0).toNat + (q.getD i 0).toNat) :
    vb 10 (s ++ [UInt8.ofNat (x % 10)]) + 10 ^ (i + 1) * (x / 10) = vb 10 (p.take (i + 1)) + vb 10 (q.take (i + 1)) := by
  rw [vb_snoc, vb_take, vb_take, toNat_ofNat _ (by omega), Nat.pow_succ, Nat.mul_assoc, hi]
  have e : 10 ^ i * (x % 10) + 10 ^ i * (10 * (x / 10)) = 10 ^ i * x := by rw [← Nat.mul_add]; congr 1; omega
  have e2 : 10 ^ i * x = 10 ^ i * c + 10 ^ i * (p.getD i 0).toNat + 10 ^ i * (q.getD i 0).toNat := by rw [hx, Nat.mul_add, Nat.mul_add]
  omega
theorem minus2_step (s p q : List UInt8) (i b : Nat) (hi : s.length = i) (h : vb 10 s + vb 10 (q.take i) = vb 10 (p.take i) + 10 ^ i * b) (d b' : Nat) (hd : d < 10) (hx : (q.getD i 0).toNat + b + d = (p.getD i 0).toNat + 10 * b') :
    vb 10 (s ++ [UInt8.ofNat d]) + vb 10 (q.take (i + 1)) = vb 10 (p.take (i + 1)) + 10 ^ (i + 1) * b' := by
  rw [vb_snoc, vb_take, vb_take, toNat_ofNat _ (by omega), Nat.pow_succ, Nat.mul_assoc, hi]
  have e : 10 ^ i * ((q.getD i 0).toNat + b + d) = 10 ^ i * ((p.getD i 0).toNat + 10 * b') := by rw [hx]
  rw [Nat.mul_add, Nat.mul_add, Nat.mul_add] at e
  omega
theorem getD_past (p : List UInt8) (k : Nat) (h : p.length ≤ k) : (p.getD k 0).toNat = 0 := by
  rw [List.getD_eq_getElem?_getD, List.getElem?_eq_none h]; rfl
/-- digits of a number come back, perhaps with zeros in front -/
def DigP (v : Nat) (w : World) (e : Ending) (w' : World) : Prop := ∃ l a cap, e = .returned (.slice a l.length cap) ∧ Rb w' a l ∧ l.length ≤ cap ∧ Dg 10 l ∧ vb 10 l = v ∧ l.length ≤ 200000 ∧ Below w.heap.size w w'

set_option maxRecDepth 100000 in
set_option maxHeartbeats 8000000 in
theorem refPlus_any (m n : Nat) (a a' : Option Addr) (cap cap' : Nat) (w : World) (hx : Rb w a (E 10 m)) (hy : Rb w a' (E 10 n)) (hs : (E 10 m).length ≤ 100000) (hs' : (E 10 n).length ≤ 100000) :
    Calls Try.prog 56 #[.slice a (E 10 m).length cap, .slice a' (E 10 n).length cap'] w (DigP (m + n) w) := by
  have HX := Lib.hid hx
  have HY := Lib.hid hy
  have HG : Hid (Dg 10 (E 10 m) ∧ Dg 10 (E 10 n)) := ⟨dg_E 10 m (by omega) (by omega), dg_E 10 n (by omega) (by omega)⟩
  have HV : Hid (vb 10 (E 10 m) = m ∧ vb 10 (E 10 n) = n) := ⟨vb_E 10 m (by omega) (by omega), vb_E 10 n (by omega) (by omega)⟩
  have HP : Hid (∀ w' s v k, w'.ownsRow w.heap.size 5 1 v k (bytes s) → Dg 10 s → vb 10 s = m + n → s.length ≤ 200000 → Below w.heap.size w w' → DigP (m + n) w (.returned v) w') := Lib.hid fun w' s v k ho hd hv hl hb => by
    obtain ⟨ra, rc, rfl, rfl, hc, hrb⟩ := rb_of_row ho
    exact ⟨s, ra, rc, rfl, hrb, hc, hd, hv, hl, hb⟩
  clear hx hy
  generalize E 10 m = p at *
  generalize E 10 n = q at *
  generalize hlp : p.length = lp at *
  generalize hlq : q.length = lq at *
  have hlph := Lib.hid hlp
  have hlqh := Lib.hid hlq
  clear hlp hlq
  obtain ⟨L, hL1, hL2, hL3, HL⟩ : ∃ L : Nat, lp ≤ L ∧ lq ≤ L ∧ L ≤ 100000 ∧ Hid (L = lp ∨ L = lq) := ⟨max lp lq, by omega, by omega, by omega, Lib.hid (by omega)⟩
  generalize hPo : DigP (m + n) w = Po at *
  clear hPo
  go_enter Try.func56, Try.ntmps56
  go_wp2
  go_loopw [5, 6, 7] (fun v c i wr => ∃ (k d : Nat) (s : List UInt8), (k ≤ L ∨ (k ≤ L + 1 ∧ d = 0)) ∧ d < 2 ∧ i = .int .i64 k ∧ c = .int .u8 d ∧ Hid (s.length = k ∧ Dg 10 s ∧ vb 10 s + 10 ^ k * d = vb 10 (p.take k) + vb 10 (q.take k)) ∧ wr.ownsRow w.heap.size 5 1 v k (bytes s) ∧ Below w.heap.size w wr) (fun _ c i _ => (L - (intOf i).toNat) * 2 + (intOf c).toNat)
  case atStart => exact ⟨0, 0, [], .inl (Nat.zero_le _), by omega, rfl, rfl, ⟨rfl, fun c hc => by simp at hc, by simp [vb]⟩, World.ownsRow_nil _ _ _ _, Below.refl _ _⟩
  case round =>
    obtain ⟨k, d, s, hk, hd, rfl, rfl, HR, hown, hbel⟩ := hrel
    have hg2 := hbel.size
    have e2 : (intOf (Value.int IntKind.i64 ((k : Int) + 1))).toNat = k + 1 := by show ((k : Int) + 1).toNat = k + 1; omega
    have e3 : (intOf (Value.int IntKind.i64 (k : Int))).toNat = k := by show (k : Int).toNat = k; omega
    have E23 := Lib.hid (And.intro e2 e3)
    clear e2 e3
    have hxx := HX.out.below hbel (Nat.le_refl _)
    have hyy := HY.out.below hbel (Nat.le_refl _)
    have hx10 := dg_getD 10 (by omega) p HG.out.1 k
    have hy10 := dg_getD 10 (by omega) q HG.out.2 k
    have HS := Lib.hid (plus2_step s p q k d HR.out.1 HR.out.2.2 _ rfl)
    have HD := Lib.hid HR.out.2.1
    have HSL := Lib.hid HR.out.1
    have hxz : lp ≤ k → (p.getD k 0).toNat = 0 := fun h => getD_past p k (by have := hlph.out; omega)
    have hyz : lq ≤ k → (q.getD k 0).toNat = 0 := fun h => getD_past q k (by have := hlqh.out; omega)
    by_cases hkp : k < lp
    · obtain ⟨b, off, rfl, hlt1, hc1⟩ := hxx.at k (by have := hlph.out; omega)
      have hkpi : (k : Int) < lp := by omega
      by_cases hkq : k < lq
      · obtain ⟨b', off', rfl, hlt2, hc2⟩ := hyy.at k (by have := hlqh.out; omega)
        have hkqi : (k : Int) < lq := by omega
        have hown1 := Lib.hid hown
        clear hown hxx hyy HR HX HY HG HV HP hxz hyz
        generalize (p.getD k 0).toNat = x at *
        generalize (q.getD k 0).toNat = y at *
        go_wp2_with (at_builtin; refine append_byte rfl (.tmp 44) (.tmp 47) 26 rfl Try.underlying26 _ w.heap.size _ k s (UInt8.ofNat ((d + x + y) % 10)) rfl rfl hown1.out w hbel ?c4 ?c5 ?c6 ?_)
        case c4 => omega
        case c5 => omega
        case c6 => (rw [toNat_ofNat _ (by omega)]; push_cast; first | rfl | omega)
        intro v' w2 hown2 hb2 hsp2
        clear hsp2
        go_wp2
        go_roundw
        case rel => exact ⟨k + 1, (d + x + y) / 10, s ++ [UInt8.ofNat ((d + x + y) % 10)], by omega, by omega, by go_num, by push_cast; rfl, ⟨by rw [List.length_append, HSL.out]; rfl, dg_snoc 10 s HD.out _ (by rw [toNat_ofNat _ (by omega)]; omega), HS.out⟩, hown2, hb2⟩
        case measure =>
          rw [E23.out.1, E23.out.2]
          have e4 : ∀ z : Int, (intOf (Value.int IntKind.u8 z)).toNat = z.toNat := fun z => rfl
          rw [e4, e4]
          omega
      · have hkqd : decide ((k : Int) < lq) = false := decide_eq_false (by omega)
        have hkqi : (lq : Int) ≤ k := by omega
        rw [hyz (by omega)] at HS
        have hown1 := Lib.hid hown
        clear hown hxx hyy HR HX HY HG HV HP hxz hyz hy10
        generalize (p.getD k 0).toNat = x at *
        go_wp2_with (at_builtin; refine append_byte rfl (.tmp 44) (.tmp 47) 26 rfl Try.underlying26 _ w.heap.size _ k s (UInt8.ofNat ((d + x + 0) % 10)) rfl rfl hown1.out w hbel ?c4 ?c5 ?c6 ?_)
        case c4 => omega
        case c5 => omega
        case c6 => (rw [toNat_ofNat _ (by omega)]; push_cast; first | rfl | omega)
        intro v' w2 hown2 hb2 hsp2
        clear hsp2
        go_wp2
        go_roundw
        case rel => exact ⟨k + 1, (d + x + 0) / 10, s ++ [UInt8.ofNat ((d + x + 0) % 10)], by omega, by omega, by go_num, by push_cast; rfl, ⟨by rw [List.length_append, HSL.out]; rfl, dg_snoc 10 s HD.out _ (by rw [toNat_ofNat _ (by omega)]; omega), HS.out⟩, hown2, hb2⟩
        case measure =>
          rw [E23.out.1, E23.out.2]
          have e4 : ∀ z : Int, (intOf (Value.int IntKind.u8 z)).toNat = z.toNat := fun z => rfl
          rw [e4, e4]
          omega
    · have hkpd : decide ((k : Int) < lp) = false := decide_eq_false (by omega)
      have hkpi : (lp : Int) ≤ k := by omega
      by_cases hkq : k < lq
      · obtain ⟨b', off', rfl, hlt2, hc2⟩ := hyy.at k (by have := hlqh.out; omega)
        have hkqi : (k : Int) < lq := by omega
        rw [hxz (by omega)] at HS
        have hown1 := Lib.hid hown
        clear hown hxx hyy HR HX HY HG HV HP hxz hyz hx10
        generalize (q.getD k 0).toNat = y at *
        go_wp2_with (at_builtin; refine append_byte rfl (.tmp 44) (.tmp 47) 26 rfl Try.underlying26 _ w.heap.size _ k s (UInt8.ofNat ((d + 0 + y) % 10)) rfl rfl hown1.out w hbel ?c4 ?c5 ?c6 ?_)
        case c4 => omega
        case c5 => omega
        case c6 => (rw [toNat_ofNat _ (by omega)]; push_cast; first | rfl | omega)
        intro v' w2 hown2 hb2 hsp2
        clear hsp2
        go_wp2
        go_roundw
        case rel => exact ⟨k + 1, (d + 0 + y) / 10, s ++ [UInt8.ofNat ((d + 0 + y) % 10)], by omega, by omega, by go_num, by push_cast; rfl, ⟨by rw [List.length_append, HSL.out]; rfl, dg_snoc 10 s HD.out _ (by rw [toNat_ofNat _ (by omega)]; omega), HS.out⟩, hown2, hb2⟩
        case measure =>
          rw [E23.out.1, E23.out.2]
          have e4 : ∀ z : Int, (intOf (Value.int IntKind.u8 z)).toNat = z.toNat := fun z => rfl
          rw [e4, e4]
          omega
      · have hkqd : decide ((k : Int) < lq) = false := decide_eq_false (by omega)
        have hkqi : (lq : Int) ≤ k := by omega
        rw [hxz (by omega), hyz (by omega)] at HS
        by_cases hd0 : d = 0
        · have hfin := Lib.hid (HP.out _ s _ k hown HD.out (by
            have h := HR.out.2.2
            rw [hd0, Nat.mul_zero, Nat.add_zero, List.take_of_length_le (by have := hlph.out; omega), List.take_of_length_le (by have := hlqh.out; omega), HV.out.1, HV.out.2] at h
            exact h) (by have := HSL.out; omega) hbel)
          have hdi : decide ((0 : Int) < d) = false := decide_eq_false (by omega)
          have hdi2 : (d : Int) ≤ 0 := by omega
          clear hown hxx hyy HR HX HY HG HV HP hxz hyz hx10 hy10 HS hd0
          go_wp2
          exact hfin.out
        · have hdi : (0 : Int) < d := by omega
          have hown1 := Lib.hid hown
          clear hown hxx hyy HR HX HY HG HV HP hxz hyz hx10 hy10
          go_wp2_with (at_builtin; refine append_byte rfl (.tmp 44) (.tmp 47) 26 rfl Try.underlying26 _ w.heap.size _ k s (UInt8.ofNat ((d + 0 + 0) % 10)) rfl rfl hown1.out w hbel ?c4 ?c5 ?c6 ?_)
          case c4 => omega
          case c5 => omega
          case c6 => (rw [toNat_ofNat _ (by omega)]; push_cast; first | rfl | omega)
          intro v' w2 hown2 hb2 hsp2
          clear hsp2
          go_wp2
          go_roundw
          case rel => exact ⟨k + 1, (d + 0 + 0) / 10, s ++ [UInt8.ofNat ((d + 0 + 0) % 10)], by omega, by omega, by go_num, by push_cast; rfl, ⟨by rw [List.length_append, HSL.out]; rfl, dg_snoc 10 s HD.out _ (by rw [toNat_ofNat _ (by omega)]; omega), HS.out⟩, hown2, hb2⟩
          case measure =>
            rw [E23.out.1, E23.out.2]
            have e4 : ∀ z : Int, (intOf (Value.int IntKind.u8 z)).toNat = z.toNat := fun z => rfl
            rw [e4, e4]
            omega

set_option maxRecDepth 100000 in
set_option maxHeartbeats 8000000 in
theorem refMinus_any (m n : Nat) (hmn : n ≤ m) (a a' : Option Addr) (cap cap' : Nat) (w : World) (hx : Rb w a (E 10 m)) (hy : Rb w a' (E 10 n)) (hs : (E 10 m).length ≤ 100000) :
    Calls Try.prog 57 #[.slice a (E 10 m).length cap, .slice a' (E 10 n).length cap'] w (CanP (m - n) w) := by
  have hlen := E_len_mono 10 n m (by omega) hmn
  have HX := Lib.hid hx
  have HY := Lib.hid hy
  have HG : Hid (Dg 10 (E 10 m) ∧ Dg 10 (E 10 n)) := ⟨dg_E 10 m (by omega) (by omega), dg_E 10 n (by omega) (by omega)⟩
  have HV : Hid (vb 10 (E 10 m) = m ∧ vb 10 (E 10 n) = n) := ⟨vb_E 10 m (by omega) (by omega), vb_E 10 n (by omega) (by omega)⟩
  have HP : Hid (∀ w' s e w'', vb 10 s = m - n → Below w.heap.size w w' → TrimP s w' e w'' → CanP (m - n) w e w'') := Lib.hid fun w' s e w'' hv hb ht => by
    obtain ⟨rfl, a', c', rfl, h1, h2⟩ := ht
    rw [hv] at h1 h2 ⊢
    exact ⟨a', c', rfl, h1, h2, hb⟩
  have HE : Hid (∀ (s : List UInt8) (b : Nat), Dg 10 s → s.length = (E 10 m).length → vb 10 s + vb 10 ((E 10 n).take (E 10 m).length) = vb 10 ((E 10 m).take (E 10 m).length) + 10 ^ (E 10 m).length * b → vb 10 s = m - n) := Lib.hid fun s b h1 h2 h3 => by
    have h := minus_end s (E 10 m) (E 10 n) b h1 h2 hlen (by rw [HV.out.1, HV.out.2]; exact hmn) (by rw [← h2, List.take_length, h2]; exact h3)
    rw [HV.out.1, HV.out.2] at h; exact h
  clear hx hy
  generalize E 10 m = p at *
  generalize E 10 n = q at *
  generalize hlp : p.length = lp at *
  generalize hlq : q.length = lq at *
  have hlph := Lib.hid hlp
  have hlqh := Lib.hid hlq
  clear hlp hlq
  generalize hPo : CanP (m - n) w = Po at *
  clear hPo
  go_enter Try.func57, Try.ntmps57
  go_wp2
  go_loopw [5, 6, 7] (fun v c i wr => ∃ (k d : Nat) (s : List UInt8), k ≤ lp ∧ d < 2 ∧ i = .int .i64 k ∧ c = .int .i64 d ∧ Hid (s.length = k ∧ Dg 10 s ∧ vb 10 s + vb 10 (q.take k) = vb 10 (p.take k) + 10 ^ k * d) ∧ wr.ownsRow w.heap.size 5 1 v k (bytes s) ∧ Below w.heap.size w wr) (fun _ _ i _ => lp - (intOf i).toNat)
  case atStart => exact ⟨0, 0, [], Nat.zero_le _, by omega, rfl, rfl, ⟨rfl, fun c hc => by simp at hc, by simp [vb]⟩, World.ownsRow_nil _ _ _ _, Below.refl _ _⟩
  case round =>
    obtain ⟨k, d, s, hk, hd, rfl, rfl, HR, hown, hbel⟩ := hrel
    have hg2 := hbel.size
    have HD := Lib.hid HR.out.2.1
    have HSL := Lib.hid HR.out.1
    by_cases hkp : k < lp
    · have hxx := HX.out.below hbel (Nat.le_refl _)
      have hyy := HY.out.below hbel (Nat.le_refl _)
      have hx10 := dg_getD 10 (by omega) p HG.out.1 k
      have hy10 := dg_getD 10 (by omega) q HG.out.2 k
      have HS := Lib.hid (fun dd b' hd hx => minus2_step s p q k d HR.out.1 HR.out.2.2 dd b' hd hx)
      have hyz : lq ≤ k → (q.getD k 0).toNat = 0 := fun h => getD_past q k (by have := hlqh.out; omega)
      obtain ⟨b, off, rfl, hlt1, hc1⟩ := hxx.at k (by have := hlph.out; omega)
      have hkpi : (k : Int) < lp := by omega
      have hown1 := Lib.hid hown
      by_cases hkq : k < lq
      · obtain ⟨b', off', rfl, hlt2, hc2⟩ := hyy.at k (by have := hlqh.out; omega)
        have hkqi : (k : Int) < lq := by omega
        clear hown hxx hyy HR HX HY HG HV HP HE hyz
        generalize (p.getD k 0).toNat = x at *
        generalize (q.getD k 0).toNat = y at *
        by_cases hneg : x < d + y
        · have hni : (x : Int) - (d : Int) - (y : Int) < 0 := by omega
          have HS2 := Lib.hid (HS.out (x + 10 - d - y) 1 (by omega) (by omega))
          clear HS
          go_wp2_with (at_builtin; refine append_byte rfl (.tmp 37) (.tmp 40) 26 rfl Try.underlying26 _ w.heap.size _ k s (UInt8.ofNat (x + 10 - d - y)) rfl rfl hown1.out w hbel ?c4 ?c5 ?c6 ?_)
          case c4 => omega
          case c5 => omega
          case c6 => (rw [toNat_ofNat _ (by omega)]; first | omega | (push_cast; omega))
          intro v' w2 hown2 hb2 hsp2
          clear hsp2
          go_wp2
          go_roundw
          case rel => exact ⟨k + 1, 1, s ++ [UInt8.ofNat (x + 10 - d - y)], by omega, by omega, by go_num, rfl, ⟨by rw [List.length_append, HSL.out]; rfl, dg_snoc 10 s HD.out _ (by rw [toNat_ofNat _ (by omega)]; omega), HS2.out⟩, hown2, hb2⟩
          case measure => simp [intOf]; omega
        · have hni : (0 : Int) ≤ (x : Int) - (d : Int) - (y : Int) := by omega
          have HS2 := Lib.hid (HS.out (x - d - y) 0 (by omega) (by omega))
          clear HS
          go_wp2_with (at_builtin; refine append_byte rfl (.tmp 37) (.tmp 40) 26 rfl Try.underlying26 _ w.heap.size _ k s (UInt8.ofNat (x - d - y)) rfl rfl hown1.out w hbel ?c4 ?c5 ?c6 ?_)
          case c4 => omega
          case c5 => omega
          case c6 => (rw [toNat_ofNat _ (by omega)]; first | omega | (push_cast; omega))
          intro v' w2 hown2 hb2 hsp2
          clear hsp2
          go_wp2
          go_roundw
          case rel => exact ⟨k + 1, 0, s ++ [UInt8.ofNat (x - d - y)], by omega, by omega, by go_num, rfl, ⟨by rw [List.length_append, HSL.out]; rfl, dg_snoc 10 s HD.out _ (by rw [toNat_ofNat _ (by omega)]; omega), HS2.out⟩, hown2, hb2⟩
          case measure => simp [intOf]; omega
      · have hkqi : (lq : Int) ≤ k := by omega
        rw [hyz (by omega)] at HS
        clear hown hxx hyy HR HX HY HG HV HP HE hyz hy10
        generalize (p.getD k 0).toNat = x at *
        by_cases hneg : x < d
        · have hni : (x : Int) - (d : Int) < 0 := by omega
          have HS2 := Lib.hid (HS.out (x + 10 - d) 1 (by omega) (by omega))
          clear HS
          go_wp2_with (at_builtin; refine append_byte rfl (.tmp 37) (.tmp 40) 26 rfl Try.underlying26 _ w.heap.size _ k s (UInt8.ofNat (x + 10 - d)) rfl rfl hown1.out w hbel ?c4 ?c5 ?c6 ?_)
          case c4 => omega
          case c5 => omega
          case c6 => (rw [toNat_ofNat _ (by omega)]; first | omega | (push_cast; omega))
          intro v' w2 hown2 hb2 hsp2
          clear hsp2
          go_wp2
          go_roundw
          case rel => exact ⟨k + 1, 1, s ++ [UInt8.ofNat (x + 10 - d)], by omega, by omega, by go_num, rfl, ⟨by rw [List.length_append, HSL.out]; rfl, dg_snoc 10 s HD.out _ (by rw [toNat_ofNat _ (by omega)]; omega), HS2.out⟩, hown2, hb2⟩
          case measure => simp [intOf]; omega
        · have hni : (0 : Int) ≤ (x : Int) - (d : Int) := by omega
          have HS2 := Lib.hid (HS.out (x - d) 0 (by omega) (by omega))
          clear HS
          go_wp2_with (at_builtin; refine append_byte rfl (.tmp 37) (.tmp 40) 26 rfl Try.underlying26 _ w.heap.size _ k s (UInt8.ofNat (x - d)) rfl rfl hown1.out w hbel ?c4 ?c5 ?c6 ?_)
          case c4 => omega
          case c5 => omega
          case c6 => (rw [toNat_ofNat _ (by omega)]; first | omega | (push_cast; omega))
          intro v' w2 hown2 hb2 hsp2
          clear hsp2
          go_wp2
          go_roundw
          case rel => exact ⟨k + 1, 0, s ++ [UInt8.ofNat (x - d)], by omega, by omega, by go_num, rfl, ⟨by rw [List.length_append, HSL.out]; rfl, dg_snoc 10 s HD.out _ (by rw [toNat_ofNat _ (by omega)]; omega), HS2.out⟩, hown2, hb2⟩
          case measure => simp [intOf]; omega
    · obtain rfl : k = lp := by omega
      have hv := HE.out s d HD.out HSL.out HR.out.2.2
      have hT := Lib.hid (trimP_row hown (by have := HSL.out; omega) HD.out)
      have hfin := Lib.hid (fun e w'' => HP.out _ s e w'' hv hbel)
      have hkd : decide ((k : Int) < k) = false := decide_eq_false (by omega)
      clear hv HR HX HY HG HV HP HE hown hbel
      go_wp2_with fail
      refine hT.out.mono ?_
      intro e w'' ht
      have hx := Lib.hid (hfin.out e w'' ht)
      obtain ⟨rfl, a', c', rfl, h1, h2⟩ := ht
      clear h1 h2
      go_wp2
      exact hx.out
end Go.Proofs.Ytmnopohjnbpinab
