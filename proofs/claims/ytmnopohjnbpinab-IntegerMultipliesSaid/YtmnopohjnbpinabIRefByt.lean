/-
  Helper: the walks of the reference's Bytes, OfBytes and Fits, and of the program's OfMagnitude.
-/
import Derived.Test.YtmnopohjnbpinabIRefScale
import Derived.Test.YtmnopohjnbpinabIRefText
import Derived.Test.YtmnopohjnbpinabIRefOf
import Derived.Laws.AppendOwnNone
import Derived.Lib.ConvBytes
namespace Go.Proofs.Ytmnopohjnbpinab
open Go.RowKit
set_option linter.unusedVariables false

theorem own_weaken {w : World} {B B' e n : Nat} {v : Value} {xs : List Value} (h : w.ownsRow B e 1 v n xs) (hB : B' ≤ B) : w.ownsRow B' e 1 v n xs := by
  refine ⟨h.1, ?_⟩
  rcases h.2 with h2 | ⟨g, cap, cur, h1, h2, h3⟩
  · exact .inl h2
  · exact .inr ⟨g, cap, cur, h1, by omega, h3⟩
/-- 'b = append([]byte{c}, b...)' at this program: b is nil or the call's own -/
theorem prepend_byte {w : World} {ops : Array Oper} {rest : List Oper} {o : Oper} {a : Act} {Q : Exit → Act → World → Prop} (hgd : o.guard = none) (s x : Operand) (t : TypeId)
    (ho : o.op = Op.call { callee := Callee.builtin Builtin.append, args := #[s, x], argTypes := #[t, t] }) (hu : Try.prog.underlying t = some (.slice 5))
    (z : Int) (B : Nat) (v : Value) (l : List UInt8) (c : UInt8) (hs : a.eval s = .slice (some ⟨w.heap.size, 0, none⟩) 1 1) (hx : a.eval x = v)
    (hown : w.ownsRow B 5 1 v l.length (bytes l)) (w0 : World) (hb : Below B w0 w) (hB : B ≤ w.heap.size) (hn : l.length ≤ 100000000) (hz : z = (c.toNat : Int))
    (h : ∀ v' w1, w1.ownsRow B 5 1 v' (l.length + 1) (bytes (c :: l)) → Below B w0 w1 → Spared (w.alloc (.cells #[.int .u8 z] 5)) (.slice (some ⟨w.heap.size, 0, none⟩) 1 1) w1 → wpList Try.prog ops Q rest (a.put o.dst v') w1) :
    wpList Try.prog ops Q (o :: rest) a (w.alloc (.cells #[.int .u8 z] 5)) := by
  obtain ⟨i0, hi, hz0, hz1, hz2⟩ := info_parts info_u8
  have hrow : (w.alloc (.cells #[.int .u8 z] 5)).ownsRow w.heap.size 5 1 (.slice (some ⟨w.heap.size, 0, none⟩) 1 1) 1 [.int .u8 z] := by
    have := World.ownsRow_lit (base := w.heap.size) (e := 5) (size := 1) w #[.int .u8 z] 1 (Nat.le_refl _) (by unfold maxLen; omega) rfl
    exact this
  rcases hown.2 with ⟨rfl, hl0⟩ | ⟨g, cap, cur, rfl, hg, hcur, hlc, hcm, hcs, hct⟩
  · have hl : l = [] := List.length_eq_zero_iff.1 hl0
    subst hl
    refine wpList_append_own_none hgd s x t ho w.heap.size 5 i0 1 hu hi (.slice (some ⟨w.heap.size, 0, none⟩) 1 1) 1 [.int .u8 z] hs hrow hx (h _ _ ?_ (hb.alloc hB _) ⟨Nat.le_refl _, fun _ _ _ => rfl⟩)
    have := own_weaken hrow hB
    rw [hz] at this ⊢
    exact this
  · have hcell : ∀ j u, (bytes l)[j]? = some u → (w.alloc (.cells #[.int .u8 z] 5)).cell? ((⟨g, 0, none⟩ : Addr).add j) = some u := fun j u hu => (hown.alloc _).cells (g := g) rfl j u hu
    refine wpList_append_own _ hgd s x t ho w.heap.size 5 i0 (.int .u8 0) 1 1 hu hi hz0 hz1 hz2 rfl (by decide) (.slice (some ⟨w.heap.size, 0, none⟩) 1 1) 1 [.int .u8 z] hs hrow ⟨g, 0, none⟩ l.length cap (bytes l) hx (by rw [bytes_len, Nat.mul_one]) hcell (cells_one l) (by unfold maxLen; omega) (by omega) (by simp) ?_
    intro v' w1 ho' hgr _
    have hb1 : Below w.heap.size (w.alloc (.cells #[.int .u8 z] 5)) w1 := (Below.refl _ _).grown hgr (by simp) (fun k hk => by cases hk; exact Nat.le_refl _)
    refine h v' w1 ?_ ((hb.alloc hB _).trans (hb1.mono hB)) ⟨hgr.size, fun k h1 h2 => hgr.block k h1 h2⟩
    have := own_weaken ho' hB
    rw [hz, Nat.add_comm] at this
    exact this

theorem Rb.past {w w1 : World} {o : Obj} {a : Option Addr} {l : List UInt8} (h : Rb w a l) (hs : Spared (w.alloc o) (.slice (some ⟨w.heap.size, 0, none⟩) 1 1) w1) : Rb w1 a l := by
  rcases h with h | ⟨b, off, rfl, hlt, hc⟩
  · exact .inl h
  · have hr : Rb (w.alloc o) (some ⟨b, off, none⟩) l := (Rb.go (.inr ⟨b, off, rfl, hlt, hc⟩) ((Below.refl _ w).alloc (Nat.le_refl _) o))
    refine hr.spared hs fun ad e h => ?_
    cases e
    have : b = w.heap.size := Option.some.inj h
    omega
/-- the bytes that are laid, and those that are still to come -/
def Bgt (n m : Nat) (s : List UInt8) : Prop := (E 256 m).reverse ++ s = (E 256 n).reverse
theorem bgt_step (n m : Nat) (s : List UInt8) (hm : m ≠ 0) (h : Bgt n m s) : Bgt n (m / 256) (UInt8.ofNat (m % 256) :: s) := by
  unfold Bgt at *
  rw [E_pos 256 m (by omega) hm] at h
  rw [← h]; simp
theorem bgt_len (n m : Nat) (s : List UInt8) (h : Bgt n m s) : s.length ≤ (E 256 n).length := by
  unfold Bgt at h
  have := congrArg List.length h
  simp at this; omega

set_option maxRecDepth 100000 in
set_option maxHeartbeats 4000000 in
theorem refBytes_any (z : Int) (a : Option Addr) (cap : Nat) (w : World) (hr : Rb w a (E 10 z.natAbs)) (hs : (E 10 z.natAbs).length ≤ 400) :
    Calls Try.prog 34 #[.agg #[.bool (neg z), .slice a (E 10 z.natAbs).length cap]] w (TxtP (E 256 z.natAbs).reverse w) := by
  have hlb := len256 z.natAbs 400 hs
  have HF : Hid (∀ s, Bgt z.natAbs 0 s → ∀ w', Below w.heap.size w w' → TxtP (E 256 z.natAbs).reverse w (.returned (.string ⟨s.toArray⟩)) w') := Lib.hid fun s h w' hb => by
    unfold Bgt at h
    rw [E_zero] at h
    rw [← h]; exact ⟨rfl, hb⟩
  have HM : Hid (∀ m, m ≤ z.natAbs → (E 10 m).length ≤ 100000) := fun m h => Nat.le_trans (E_len_mono 10 _ _ (by omega) h) (by omega)
  have HN : Hid (∀ m, (E 10 m).length = 0 → m = 0) := fun m h => (E_nil 10 m (by omega)).1 (List.length_eq_zero_iff.1 h)
  have HL : Hid (∀ m t, Bgt z.natAbs m t → t.length ≤ 400) := fun m t h => Nat.le_trans (bgt_len _ m t h) hlb
  have HST : Hid (Bgt z.natAbs z.natAbs []) := by show _ ++ [] = _; rw [List.append_nil]
  have HSM := Lib.hid (fun m t (hm : m ≠ 0) => bgt_step z.natAbs m t hm)
  have hrh := Lib.hid hr
  clear hr hlb hs
  generalize hPo : TxtP (E 256 z.natAbs).reverse w = Po at *
  clear hPo
  generalize neg z = bz at *
  obtain ⟨w0, hw0⟩ : ∃ w0, Hid (w0 = w.alloc (.cells #[.bool bz, .slice a (E 10 z.natAbs).length cap] 28)) := ⟨_, Lib.hid rfl⟩
  have hbel0 : Hid (Below w.heap.size w w0) := by rw [hw0.out]; exact Lib.hid ((Below.refl _ w).alloc (Nat.le_refl _) _)
  have hrb0 : Hid (Rb w0 a (E 10 z.natAbs)) := Lib.hid (hrh.out.below hbel0.out (Nat.le_refl _))
  go_enter Try.func34, Try.ntmps34
  go_wp2_with fail
  rw [← hw0.out]
  go_loopg [3, 4] z.natAbs (fun gk v dv wr => ∃ (m : Nat) (ra : Option Addr) (rc : Nat) (s : List UInt8), m ≤ gk ∧ dv = .slice ra (E 10 m).length rc ∧ Hid (Bgt z.natAbs m s ∧ m ≤ z.natAbs) ∧ Rb wr ra (E 10 m) ∧ wr.ownsRow w0.heap.size 5 1 v s.length (bytes s) ∧ Below w0.heap.size w0 wr)
  case atStart => exact ⟨z.natAbs, a, cap, [], Nat.le_refl _, rfl, Lib.hid ⟨HST.out, Nat.le_refl _⟩, hrb0.out, World.ownsRow_nil _ _ _ _, Below.refl _ _⟩
  case round =>
    obtain ⟨m, ra, rc, s, hgk, rfl, HS, hrb, hown, hbel⟩ := hrel
    have hlm := HM.out m HS.out.2
    have hsl := HL.out m s HS.out.1
    by_cases hm : (E 10 m).length = 0
    · have hm0 := HN.out m hm
      have hdg := HS.out.1
      rw [hm0] at hdg
      obtain ⟨va, vc, rfl, _, hvc, hrbv⟩ := rb_of_row hown
      have hcv := conv_rb hrbv vc
      have hfin := Lib.hid (HF.out s hdg wr (hbel0.out.trans (hbel.mono hbel0.out.size)))
      have hl0 : (E 10 m).length ≤ 0 := by omega
      clear hm hm0 hdg hrb HM HN HL HST HSM HS hown hrbv hvc
      generalize (E 10 m).length = lm at *
      generalize s.length = ls at *
      generalize (⟨s.toArray⟩ : ByteArray) = ts at *
      go_wp2
      exact hfin.out
    · have hm0 : m ≠ 0 := by intro e; rw [e] at hm; exact hm rfl
      have hl0 : 0 < (E 10 m).length := by omega
      have hP := Lib.hid (refShort_any m 256 (by omega) (by omega) ra rc wr hrb hlm)
      have hmod : m % 256 < 256 := Nat.mod_lt m (by omega)
      have hE := Lib.hid (HSM.out m s hm0 HS.out.1)
      have hdiv := Nat.div_lt_self (show 0 < m by omega) (show 1 < 256 by omega)
      have hms := Lib.hid HS.out.2
      have hhs := hbel.size
      have hown1 := Lib.hid hown
      have hfresh : Hid (∀ k, u3.ownBlock = some k → k < wr.heap.size) := fun k hk => (hown1.out.lt k hk).2
      clear hm hm0 HM HN HL HST HSM HS hrb hown
      go_wp2_with fail
      refine hP.out.mono ?_
      rintro e w2 ⟨na, nc, rfl, hnr, hnl, hnb, hb2'⟩
      have hbel2 : Below w0.heap.size w0 w2 := hbel.trans (hb2'.mono hhs)
      have hown2 := Lib.hid (owns_go hown1.out hb2' (Nat.le_refl _))
      have hs2 := hb2'.size
      have hnrh := Lib.hid hnr
      have hbel2h := Lib.hid hbel2
      clear hbel hb2' hnr hnl hnb hP hown1 hfresh
      generalize hdd : m % 256 = d at *
      have hddh := Lib.hid hdd
      clear hdd
      have hdi : ((d : Nat) : Int) < 256 := by omega
      go_wp2_with (at_builtin; refine prepend_byte rfl (.tmp 19) (.tmp 20) 26 rfl Try.underlying26 _ w0.heap.size _ s (UInt8.ofNat d) rfl rfl hown2.out w0 hbel2h.out ?c1 ?c2 ?c3 ?_)
      case c1 => omega
      case c2 => omega
      case c3 => rw [toNat_ofNat _ (by omega)]
      intro v' w3 hown3 hb3 hsp
      have hnr3 := Lib.hid (hnrh.out.past hsp)
      clear hsp
      go_wp2
      go_roundg (m / 256)
      case measure => omega
      case rel => exact ⟨m / 256, na, nc, UInt8.ofNat d :: s, Nat.le_refl _, rfl, Lib.hid ⟨hE.out, by have := hms.out; omega⟩, hnr3.out, hown3, hb3⟩

set_option maxRecDepth 100000 in
set_option maxHeartbeats 4000000 in
/-- the number with the bytes of a text, and a sign -/
theorem refOfBytes_any (s : ByteArray) (b : Bool) (w : World) (hs : s.size ≤ 1500) :
    Calls Try.prog 35 #[.string s, .bool b] w (NumP (zi b (vm 256 s.data.toList)) w) := by
  have hlen : s.data.toList.length = s.size := by simp
  have HGB := Lib.hid (fun i (hi : i < s.size) => getD_byte s i hi)
  have HST := Lib.hid (fun k (hk : k < s.size) => vm_take 256 s.data.toList k (by omega))
  have hfull : Hid (s.data.toList.take s.size = s.data.toList) := Lib.hid (List.take_of_length_le (by omega))
  have HF := Lib.hid (fun (w2 X : World) (n t n0 c0 rc : Nat) (b0 : Bool) (a0 ra : Option Addr) hwX hn hx h1 h2 v0 v1 => numP_box (z := zi b (vm 256 s.data.toList)) (w := w) (w2 := w2) (X := X) (n := n) (t := t) (n0 := n0) (c0 := c0) (rc := rc) (b0 := b0) (a0 := a0) (ra := ra) hwX hn hx h1 h2 v0 v1)
  have HSG : Hid (∀ (m : Nat) (a : Option Addr) (c : Nat) W, m = vm 256 s.data.toList → (E 10 m).length ≤ 1000000 → (E 10 m).length ≤ c → Rb W a (E 10 m) → Calls Try.prog 44 #[.slice a (E 10 m).length c, .bool b] W (NumP (zi b (vm 256 s.data.toList)) W)) := Lib.hid fun m a c W hm h1 h2 h3 => by
    have h := refSigned_any b (E 10 m) a c W h1 h2 h3 (dg_E 10 _ (by omega) (by omega))
    rw [vb_E 10 _ (by omega) (by omega), hm] at h
    rw [hm]; exact h
  clear hlen
  generalize zi b (vm 256 s.data.toList) = z at *
  generalize hPo : NumP z w = Po at *
  clear hPo
  generalize s.data.toList = sl at *
  go_enter Try.func35, Try.ntmps35
  go_wp2
  go_loopw [5, 6] (fun v i wr => ∃ (k m : Nat) (ra : Option Addr) (rc : Nat), k ≤ s.size ∧ i = .int .i64 k ∧ v = .slice ra (E 10 m).length rc ∧ Hid (m = vm 256 (sl.take k)) ∧ (E 10 m).length ≤ 4 * k ∧ (E 10 m).length ≤ rc ∧ Hid (Rb wr ra (E 10 m)) ∧ Hid (Below (w.alloc (.cells #[.bool false, .slice none 0 0] 28)).heap.size (w.alloc (.cells #[.bool false, .slice none 0 0] 28)) wr)) (fun _ i _ => s.size - (intOf i).toNat)
  case atStart => exact ⟨0, 0, none, 0, Nat.zero_le _, rfl, rfl, Lib.hid (by simp [vm]), Nat.zero_le _, Nat.zero_le _, Lib.hid (Rb.nil _ _), Lib.hid (Below.refl _ _)⟩
  case round =>
    obtain ⟨k, m, ra, rc, hk, rfl, rfl, HS, hln, hrc, hrb, hbel⟩ := hrel
    by_cases hlt : k < s.size
    · have hgb := HGB.out k hlt
      have hst := HST.out k hlt
      rw [hgb] at hst
      have h8 : s[k].toNat < 256 := UInt8.toNat_lt _
      have HM : Hid (256 * m + s[k].toNat = vm 256 (sl.take (k + 1))) := Lib.hid (by rw [hst, ← HS.out])
      have HSC := Lib.hid (refScale_any m 256 s[k].toNat (by omega) (by omega) h8 ra rc wr hrb.out (by omega))
      have hl2 := Lib.hid (len_scaled m 256 s[k].toNat (4 * k) (by omega) h8 hln)
      have hki : (k : Int) < s.size := by omega
      clear hgb hst HGB HST hfull HF HSG HS hrb hln hrc
      generalize (E 10 m).length = lm at *
      go_wp2_with fail
      refine HSC.out.mono ?_
      rintro e w2 ⟨na, nc, rfl, hr2, hc2, hb2'⟩
      have hbel2 := Lib.hid (hbel.out.trans (hb2'.mono hbel.out.size))
      have hr2h := Lib.hid hr2
      clear hr2 hb2' HSC
      go_wp2_with fail
      go_roundw
      case rel => exact ⟨k + 1, 256 * m + s[k].toNat, na, nc, by omega, by go_num, rfl, HM, by have := hl2.out; omega, hc2, hr2h, hbel2⟩
      case measure => simp [intOf]; omega
    · obtain rfl : k = s.size := by omega
      have hm := HS.out
      rw [hfull.out] at hm
      have HS2 := Lib.hid (HSG.out m ra rc wr hm (by omega) hrc hrb.out)
      have hkd : decide ((s.size : Int) < s.size) = false := decide_eq_false (by omega)
      have HF2 := Lib.hid (fun w2 rc ra (h : Below wr.heap.size wr w2) => HF.out w2 w w.heap.size _ _ _ rc _ _ ra (Below.refl _ _) rfl (hbel.out.trans (h.mono hbel.out.size)))
      have hbx := Lib.hid (fun w2 (h : Below wr.heap.size wr w2) => resbox (X := w) (n := w.heap.size) rfl (hbel.out.trans (h.mono hbel.out.size)))
      clear hm HGB HST hfull HF HSG HS hrb hln hrc hbel
      generalize (E 10 m).length = lm at *
      go_wp2_with fail
      refine HS2.out.mono ?_
      rintro e w2 ⟨na, nc, rfl, h1, h2, h3⟩
      obtain ⟨c0, c1, f0, f1⟩ := hbx.out w2 h3
      have HN := Lib.hid (HF2.out w2 nc na h3 h1 h2)
      clear h1 h2 h3 HF2 HS2 hbx
      generalize neg z = bz at *
      generalize (E 10 z.natAbs).length = lz at *
      go_wp2
      refine bodyPost_ret (v := .agg #[.bool bz, .slice na lz nc]) (by simp [results, Try.results35, go_sem, c0, c1]) rfl ?_
      exact HN.out _ _
end Go.Proofs.Ytmnopohjnbpinab
