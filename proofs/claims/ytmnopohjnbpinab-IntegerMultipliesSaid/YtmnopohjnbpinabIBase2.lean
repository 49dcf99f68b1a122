/-
  Helper: the walks of natural.inBase and ofBase.
-/
import Derived.Test.YtmnopohjnbpinabIBase
import Derived.Test.YtmnopohjnbpinabINat4
namespace Go.Proofs.Ytmnopohjnbpinab
open Go.RowKit
set_option linter.unusedVariables false

theorem bytP_rev {l : List UInt8} {w w1 w2 : World} {v : Value} (hb : Below w.heap.size w w1) (ho : w2.ownsRow w.heap.size 5 1 v l.length (bytes l.reverse)) (hb2 : Below w.heap.size w1 w2) : BytP l.reverse w (.returned v) w2 :=
  ⟨v, rfl, by rw [List.length_reverse]; exact ho, hb.trans hb2⟩
set_option maxRecDepth 100000 in
set_option maxHeartbeats 1000000 in
theorem nInBase_any (n b : Nat) (hb : 2 ≤ b) (hb2 : b ≤ 256) (a : Option Addr) (cap : Nat) (w : World) (hr : Rb w a (E 10 n)) (hs : (E 10 n).length ≤ 100000) (hsb : (E b n).length ≤ 1000000) :
    Calls Try.prog 61 #[.slice a (E 10 n).length cap, .int .i64 (b : Int)] w (BytP (E b n).reverse w) := by
  have HF := Lib.hid (fun w1 w2 v hb ho hb2 => bytP_rev (l := E b n) (w := w) (w1 := w1) (w2 := w2) (v := v) hb ho hb2)
  have HV : Hid (∀ v w1, w1.ownsRow w.heap.size 5 1 v (E b n).length (bytes (E b n)) → Calls Try.prog 75 #[v] w1 fun e w' => e = .returned (.tuple #[]) ∧ w'.ownsRow w.heap.size 5 1 v (E b n).length (bytes (E b n).reverse) ∧ Below w.heap.size w1 w') := fun v w1 h => reverse_any _ _ v w1 h hsb
  by_cases h10 : b = 10
  · have HC : Hid (Calls Try.prog 73 #[.slice a (E 10 n).length cap] w (BytP (E b n) w)) := by
      rw [h10]; exact clone_any _ a cap w hr (by omega)
    have hd : ((b : Int) == 10) = true := by rw [beq_iff_eq]; omega
    clear hr h10
    generalize hPo : BytP (E b n).reverse w = Po at *
    clear hPo
    generalize (E 10 n).length = l at *
    go_enter Try.func61, Try.ntmps61
    go_wp2_with fail
    refine HC.out.mono ?_
    rintro e w1 ⟨v, rfl, ho, hb1⟩
    have hV2 := Lib.hid (HV.out v w1 ho)
    clear ho
    go_wp2_with fail
    refine hV2.out.mono ?_
    rintro e w2 ⟨rfl, ho2, hb2⟩
    have hfin := Lib.hid (HF.out w1 w2 v hb1 ho2 hb2)
    clear ho2 hb2 hb1
    go_wp2
    exact hfin.out
  · have HC := Lib.hid (converted_any n b hb hb2 a cap w hr hs hsb)
    have hd : ((b : Int) == 10) = false := by rw [beq_eq_false_iff_ne]; omega
    clear hr h10
    generalize hPo : BytP (E b n).reverse w = Po at *
    clear hPo
    generalize (E 10 n).length = l at *
    go_enter Try.func61, Try.ntmps61
    go_wp2_with fail
    refine HC.out.mono ?_
    rintro e w1 ⟨v, rfl, ho, hb1⟩
    have hV2 := Lib.hid (HV.out v w1 ho)
    clear ho
    go_wp2_with fail
    refine hV2.out.mono ?_
    rintro e w2 ⟨rfl, ho2, hb2⟩
    have hfin := Lib.hid (HF.out w1 w2 v hb1 ho2 hb2)
    clear ho2 hb2 hb1
    go_wp2
    exact hfin.out

def OfOk (V : Nat) (w : World) (e : Ending) (w' : World) : Prop := ∃ a cap, e = .returned (.tuple #[.slice a (E 10 V).length cap, .int .i64 0]) ∧ Rb w' a (E 10 V) ∧ (E 10 V).length ≤ cap ∧ Below w.heap.size w w'
set_option maxRecDepth 100000 in
set_option maxHeartbeats 2000000 in
theorem ofBase_ok (ds : List UInt8) (b : Nat) (hb : 1 ≤ b) (hb2 : b ≤ 256) (a : Option Addr) (cap : Nat) (w : World) (hr : Rb w a ds) (hs : ds.length ≤ 1000000) (hV : (E 10 (vm b ds)).length ≤ 400) :
    Calls Try.prog 66 #[.slice a ds.length cap, .int .i64 (b : Int)] w (OfOk (vm b ds) w) := by
  have HR := Lib.hid hr
  have HM : Hid (∀ k, (E 10 (vm b (ds.take k))).length ≤ 400) := fun k => Nat.le_trans (E_len_mono 10 _ _ (by omega) (vm_mono b hb ds k)) hV
  have HF : Hid (∀ k ra rc w', ds.length ≤ k → Rb w' ra (E 10 (vm b (ds.take k))) → (E 10 (vm b (ds.take k))).length ≤ rc → Below w.heap.size w w' → OfOk (vm b ds) w (.returned (.tuple #[.slice ra (E 10 (vm b (ds.take k))).length rc, .int .i64 0])) w') := fun k ra rc w' hk h1 h2 h3 => by
    rw [List.take_of_length_le hk] at h1 h2 ⊢
    exact ⟨_, _, rfl, h1, h2, h3⟩
  have HS := Lib.hid (fun k h => vm_take b ds k h)
  clear hr hV
  generalize hPo : OfOk (vm b ds) w = Po at *
  clear hPo
  generalize hL : ds.length = L at *
  have hLh := Lib.hid hL
  clear hL
  go_enter Try.func66, Try.ntmps66
  go_wp2
  go_loopw [6, 10] (fun v i wr => ∃ (k m : Nat) (ra : Option Addr) (rc : Nat), k ≤ L ∧ i = .int .i64 k ∧ v = .slice ra (E 10 m).length rc ∧ Hid (m = vm b (ds.take k)) ∧ Hid (Rb wr ra (E 10 m) ∧ (E 10 m).length ≤ rc) ∧ Below w.heap.size w wr) (fun _ i _ => L - (intOf i).toNat)
  case atStart => exact ⟨0, 0, none, 0, Nat.zero_le _, rfl, rfl, rfl, ⟨Rb.nil _ _, by decide⟩, Below.refl _ _⟩
  case round =>
    obtain ⟨k, m, ra, rc, hk, rfl, rfl, hm, hrb, hbel⟩ := hrel
    have hml := HM.out k
    rw [← hm.out] at hml
    by_cases hlt : k < L
    · obtain ⟨bb, off, rfl, hlt1, hc1⟩ := (HR.out.go hbel).at k (by have := hLh.out; omega)
      have hstep := Lib.hid (HS.out k (by have := hLh.out; omega))
      rw [← hm.out] at hstep
      have hx : (ds.getD k 0).toNat < 256 := UInt8.toNat_lt _
      have hnext := HM.out (k + 1)
      generalize (ds.getD k 0).toNat = x at *
      have hls := len_scaled m b x 400 hb2 hx hml
      have hnx : Hid ((E 10 (b * m + x)).length ≤ 400) := by rw [← hstep.out]; exact hnext
      have hsc := Lib.hid (scaled_any m b x hb hb2 hx ra rc _ hrb.out.1 (by omega) (by omega))
      have hsz := hbel.size
      clear hnext hml hls
      go_wp2_with fail
      refine hsc.out.mono ?_
      rintro e w2 ⟨na, nc, rfl, h1, h2, _, h3⟩
      have hb2' : Below w.heap.size w w2 := hbel.trans (h3.mono hsz)
      have hN := Lib.hid (And.intro h1 h2)
      have hnx2 := hnx.out
      clear h1 h2 h3 hsc hbel
      generalize hM : b * m + x = M at *
      have hMh := Lib.hid hM
      clear hM
      go_wp2
      go_roundw
      case rel => exact ⟨k + 1, M, na, nc, by omega, by go_num, rfl, hstep.out.symm, hN.out, hb2'⟩
      case measure => simp [intOf]; omega
    · have hfin := HF.out k ra rc wr (by omega)
      rw [← hm.out] at hfin
      have hfin2 := Lib.hid (hfin hrb.out.1 hrb.out.2 hbel)
      clear hfin
      have hkl : (L : Int) ≤ k := by omega
      go_wp2
      exact hfin2.out

set_option maxRecDepth 100000 in
set_option maxHeartbeats 2000000 in
theorem ofBase_long (ds : List UInt8) (b : Nat) (hb : 1 ≤ b) (hb2 : b ≤ 256) (a : Option Addr) (cap : Nat) (w : World) (hr : Rb w a ds) (hs : ds.length ≤ 1000000) (hV : 400 < (E 10 (vm b ds)).length) :
    Calls Try.prog 66 #[.slice a ds.length cap, .int .i64 (b : Int)] w fun e w' => e = .returned (.tuple #[.slice none 0 0, .int .i64 6]) ∧ Below w.heap.size w w' := by
  have HR := Lib.hid hr
  have HK : Hid (∀ k m, m = vm b (ds.take k) → (E 10 m).length ≤ 400 → k < ds.length) := fun k m e h => by
    by_cases hk : k < ds.length
    · exact hk
    · rw [List.take_of_length_le (by omega)] at e
      rw [e] at h; omega
  have HS := Lib.hid (fun k h => vm_take b ds k h)
  clear hr hV
  generalize hL : ds.length = L at *
  have hLh := Lib.hid hL
  clear hL
  go_enter Try.func66, Try.ntmps66
  go_wp2
  go_loopw [6, 10] (fun v i wr => ∃ (k m : Nat) (ra : Option Addr) (rc : Nat), k ≤ L ∧ i = .int .i64 k ∧ v = .slice ra (E 10 m).length rc ∧ Hid (m = vm b (ds.take k)) ∧ (E 10 m).length ≤ 400 ∧ Hid (Rb wr ra (E 10 m) ∧ (E 10 m).length ≤ rc) ∧ Below w.heap.size w wr) (fun _ i _ => L - (intOf i).toNat)
  case atStart => exact ⟨0, 0, none, 0, Nat.zero_le _, rfl, rfl, rfl, by decide, ⟨Rb.nil _ _, by decide⟩, Below.refl _ _⟩
  case round =>
    obtain ⟨k, m, ra, rc, hk, rfl, rfl, hm, hml, hrb, hbel⟩ := hrel
    have hlt := HK.out k m hm.out hml
    obtain ⟨bb, off, rfl, hlt1, hc1⟩ := (HR.out.go hbel).at k (by have := hLh.out; omega)
    have hstep := Lib.hid (HS.out k (by have := hLh.out; omega))
    rw [← hm.out] at hstep
    have hx : (ds.getD k 0).toNat < 256 := UInt8.toNat_lt _
    generalize (ds.getD k 0).toNat = x at *
    have hls := len_scaled m b x 400 hb2 hx hml
    have hsc := Lib.hid (scaled_any m b x hb hb2 hx ra rc _ hrb.out.1 (by omega) (by omega))
    have hsz := hbel.size
    clear hml
    go_wp2_with fail
    refine hsc.out.mono ?_
    rintro e w2 ⟨na, nc, rfl, h1, h2, _, h3⟩
    have hb2' : Below w.heap.size w w2 := hbel.trans (h3.mono hsz)
    have hN := Lib.hid (And.intro h1 h2)
    clear h1 h2 h3 hsc hbel
    generalize hM : b * m + x = M at *
    have hMh := Lib.hid hM
    clear hM
    by_cases hlong : (E 10 M).length ≤ 400
    · go_wp2
      go_roundw
      case rel => exact ⟨k + 1, M, na, nc, by omega, by go_num, rfl, hstep.out.symm, hlong, hN.out, hb2'⟩
      case measure => simp [intOf]; omega
    · have hl2 : 400 < (E 10 M).length := by omega
      go_wp2
      go_ret2
      exact ⟨rfl, hb2'⟩

/-- the allowed bases -/
def isB (b : Int) : Bool := b == 2 || b == 8 || b == 10 || b == 16
set_option maxHeartbeats 1000000 in
theorem isBase_any (b : Int) (w : World) : Calls Try.prog 36 #[.int .i64 b] w fun e w' => e = .returned (.bool (isB b)) ∧ w = w' := by
  by_cases h2 : b = 2
  · subst h2
    have hr : Hid (isB 2 = true) := rfl
    go_enter Try.func36, Try.ntmps36
    go_wp2
    go_ret
    rw [hr.out]; exact ⟨rfl, rfl⟩
  · by_cases h8 : b = 8
    · subst h8
      have hr : Hid (isB 8 = true) := rfl
      go_enter Try.func36, Try.ntmps36
      go_wp2
      go_ret
      rw [hr.out]; exact ⟨rfl, rfl⟩
    · by_cases h10 : b = 10
      · subst h10
        have hr : Hid (isB 10 = true) := rfl
        go_enter Try.func36, Try.ntmps36
        go_wp2
        go_ret
        rw [hr.out]; exact ⟨rfl, rfl⟩
      · by_cases h16 : b = 16
        · subst h16
          have hr : Hid (isB 16 = true) := rfl
          go_enter Try.func36, Try.ntmps36
          go_wp2
          go_ret
          rw [hr.out]; exact ⟨rfl, rfl⟩
        · have q2 : (b == 2) = false := beq_eq_false_iff_ne.2 h2
          have q8 : (b == 8) = false := beq_eq_false_iff_ne.2 h8
          have q10 : (b == 10) = false := beq_eq_false_iff_ne.2 h10
          have q16 : (b == 16) = false := beq_eq_false_iff_ne.2 h16
          have hr : Hid (isB b = false) := by show _ = _; unfold isB; rw [q2, q8, q10, q16]; rfl
          clear h2 h8 h10 h16
          go_enter Try.func36, Try.ntmps36
          go_wp2
          go_ret
          rw [hr.out]; exact ⟨rfl, rfl⟩

/-- the digit of a character, if it is one (16 otherwise) -/
def dgc (c : UInt8) : Nat := if 48 ≤ c.toNat ∧ c.toNat ≤ 57 then c.toNat - 48 else if 97 ≤ c.toNat ∧ c.toNat ≤ 102 then c.toNat - 87 else if 65 ≤ c.toNat ∧ c.toNat ≤ 70 then c.toNat - 55 else 16
def DigOk (n : Nat) (w : World) (e : Ending) (w' : World) : Prop := e = .returned (.tuple #[.int .i64 (n : Int), .bool true]) ∧ w = w'
def DigNo (w : World) (e : Ending) (w' : World) : Prop := e = .returned (.tuple #[.int .i64 0, .bool false]) ∧ w = w'
set_option maxHeartbeats 1000000 in
theorem digitOf_ok (c : UInt8) (w : World) (h : dgc c < 16) : Calls Try.prog 39 #[.int .u8 (c.toNat : Int)] w (DigOk (dgc c) w) := by
  have h8 : c.toNat < 256 := UInt8.toNat_lt c
  unfold dgc at h ⊢
  generalize c.toNat = x at *
  by_cases h1 : 48 ≤ x ∧ x ≤ 57
  · rw [if_pos h1]
    have g1 := h1.1
    have g2 := h1.2
    have hfin : Hid (∀ z : Int, z = (x : Int) - 48 → DigOk (x - 48) w (.returned (.tuple #[.int .i64 z, .bool true])) w) := fun z hz => ⟨by rw [hz, show ((x - 48 : Nat) : Int) = (x : Int) - 48 by omega], rfl⟩
    clear h h1
    generalize DigOk (x - 48) w = Po at *
    go_enter Try.func39, Try.ntmps39
    go_wp2
    exact hfin.out _ rfl
  · rw [if_neg h1] at h ⊢
    by_cases h2 : 97 ≤ x ∧ x ≤ 102
    · rw [if_pos h2]
      have g1 := h2.1
      have g2 := h2.2
      have hfin : Hid (∀ z : Int, z = (x : Int) - 97 + 10 → DigOk (x - 87) w (.returned (.tuple #[.int .i64 z, .bool true])) w) := fun z hz => ⟨by rw [hz, show ((x - 87 : Nat) : Int) = (x : Int) - 97 + 10 by omega], rfl⟩
      clear h h2 h1
      generalize DigOk (x - 87) w = Po at *
      go_enter Try.func39, Try.ntmps39
      go_wp2
      exact hfin.out _ rfl
    · rw [if_neg h2] at h ⊢
      by_cases h3 : 65 ≤ x ∧ x ≤ 70
      · rw [if_pos h3]
        have g1 := h3.1
        have g2 := h3.2
        have hfin : Hid (∀ z : Int, z = (x : Int) - 65 + 10 → DigOk (x - 55) w (.returned (.tuple #[.int .i64 z, .bool true])) w) := fun z hz => ⟨by rw [hz, show ((x - 55 : Nat) : Int) = (x : Int) - 65 + 10 by omega], rfl⟩
        clear h h2 h1 h3
        generalize DigOk (x - 55) w = Po at *
        go_enter Try.func39, Try.ntmps39
        go_wp2
        exact hfin.out _ rfl
      · rw [if_neg h3] at h; omega
set_option maxHeartbeats 1000000 in
theorem digitOf_no (c : UInt8) (w : World) (h : ¬ dgc c < 16) : Calls Try.prog 39 #[.int .u8 (c.toNat : Int)] w (DigNo w) := by
  have h8 : c.toNat < 256 := UInt8.toNat_lt c
  unfold dgc at h
  generalize c.toNat = x at *
  have h1 : ¬ (48 ≤ x ∧ x ≤ 57) := fun g => by rw [if_pos g] at h; omega
  rw [if_neg h1] at h
  have h2 : ¬ (97 ≤ x ∧ x ≤ 102) := fun g => by rw [if_pos g] at h; omega
  rw [if_neg h2] at h
  have h3 : ¬ (65 ≤ x ∧ x ≤ 70) := fun g => by rw [if_pos g] at h; omega
  clear h
  have hfin : Hid (DigNo w (.returned (.tuple #[.int .i64 0, .bool false])) w) := ⟨rfl, rfl⟩
  generalize DigNo w = Po at *
  rcases (show x < 48 ∨ (57 < x ∧ x < 65) ∨ (70 < x ∧ x < 97) ∨ 102 < x by omega) with g | ⟨g, g'⟩ | ⟨g, g'⟩ | g
  all_goals
    clear h1 h2 h3
    go_enter Try.func39, Try.ntmps39
    go_wp2
    exact hfin.out
end Go.Proofs.Ytmnopohjnbpinab
