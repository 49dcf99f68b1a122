/-
  Helper: the walks of the reference's Text and Long, and of the statements' agree.
-/
import Derived.Test.YtmnopohjnbpinabIRefA
import Derived.Test.YtmnopohjnbpinabINb
import Derived.Deep.Cut
namespace Go.Proofs.Ytmnopohjnbpinab
open Go.RowKit
set_option linter.unusedVariables false

/-- what is written of the text, and what is still to come -/
def Tnx (t p : List UInt8) (j : Nat) (s : List UInt8) : Prop := s ++ ((p.take j).reverse.map fig) = t
theorem tnx_step (t p : List UInt8) (i : Nat) (s : List UInt8) (hi : i < p.length) (h : Tnx t p (i + 1) s) : Tnx t p i (s ++ [fig (p.getD i 0)]) := by
  unfold Tnx at *
  rw [← h, List.take_succ_eq_append_getElem hi, List.reverse_append, List.getD_eq_getElem?_getD, List.getElem?_eq_getElem hi]
  simp
theorem tnx_end (t p s : List UInt8) (h : Tnx t p 0 s) : s = t := by
  unfold Tnx at h; simpa using h
theorem tnx_len (t p : List UInt8) (j : Nat) (s : List UInt8) (h : Tnx t p j s) : s.length ≤ t.length := by
  unfold Tnx at h
  have := congrArg List.length h
  simp at this; omega
theorem tnx_start (z : Int) (h : z.natAbs ≠ 0) : Tnx (T z) (E 10 z.natAbs) (E 10 z.natAbs).length (if neg z then [45] else []) := by
  unfold Tnx T Tb body neg
  rw [List.take_length, if_neg h]
  by_cases hz : z < 0
  · rw [if_pos (decide_eq_true hz), if_pos hz]
  · rw [if_neg hz, decide_eq_false hz]; rfl
theorem T_len2 (z : Int) (k : Nat) (h : (E 10 z.natAbs).length ≤ k) : (T z).length ≤ k + 2 := by
  unfold T Tb body
  rw [List.length_append]
  split <;> split <;> simp <;> omega

set_option maxRecDepth 100000 in
set_option maxHeartbeats 4000000 in
theorem refText_any (z : Int) (a : Option Addr) (cap : Nat) (w : World) (hr : Rb w a (E 10 z.natAbs)) (hs : (E 10 z.natAbs).length ≤ 100000) :
    Calls Try.prog 24 #[.agg #[.bool (neg z), .slice a (E 10 z.natAbs).length cap]] w (TxtP (T z) w) := by
  have hTl := T_len2 z _ hs
  have HF0 : Hid ((E 10 z.natAbs).length = 0 → ∀ w', Below w.heap.size w w' → TxtP (T z) w (.returned (.string ⟨#[48]⟩)) w') := fun h w' hb' => by
    have h0 : z.natAbs = 0 := (E_nil 10 _ (by omega)).1 (List.length_eq_zero_iff.1 h)
    have hz : z = 0 := by omega
    subst hz
    exact ⟨rfl, hb'⟩
  have HF : Hid (∀ s w', Tnx (T z) (E 10 z.natAbs) 0 s → Below w.heap.size w w' → TxtP (T z) w (.returned (.string ⟨s.toArray⟩)) w') := fun s w' ht hb' => by
    rw [tnx_end _ _ _ ht]; exact ⟨rfl, hb'⟩
  have HST : Hid ((E 10 z.natAbs).length ≠ 0 → Tnx (T z) (E 10 z.natAbs) (E 10 z.natAbs).length (if neg z then [45] else [])) := fun h => tnx_start z (fun e => by rw [e] at h; exact h rfl)
  have HSM := Lib.hid (fun i s (hi : i < (E 10 z.natAbs).length) => tnx_step (T z) (E 10 z.natAbs) i s hi)
  have HL : Hid (∀ j s, Tnx (T z) (E 10 z.natAbs) j s → s.length ≤ 100002) := fun j s h => Nat.le_trans (tnx_len _ _ j s h) hTl
  have HG : Hid (Dg 10 (E 10 z.natAbs)) := dg_E 10 _ (by omega) (by omega)
  have hrh := Lib.hid hr
  clear hr hTl
  generalize hPo : TxtP (T z) w = Po at *
  clear hPo
  generalize T z = tz at *
  generalize E 10 z.natAbs = p at *
  generalize neg z = bz at *
  generalize hlp : p.length = L at *
  have hlph := Lib.hid hlp
  clear hlp
  obtain ⟨w0, hw0⟩ : ∃ w0, Hid (w0 = w.alloc (.cells #[.bool bz, .slice a L cap] 28)) := ⟨_, Lib.hid rfl⟩
  have hsz0 : Hid (w0.heap.size = w.heap.size + 1) := by rw [hw0.out]; exact Lib.hid (by simp)
  have hbel0 : Hid (Below w.heap.size w w0) := by rw [hw0.out]; exact Lib.hid ((Below.refl _ w).alloc (Nat.le_refl _) _)
  have hcells : Hid (∀ wr, Below (w.heap.size + 1) w0 wr → wr.cell? ⟨w.heap.size, 0, none⟩ = some (.bool bz) ∧ wr.cell? ⟨w.heap.size, 1, none⟩ = some (.slice a L cap) ∧ Rb wr a p ∧ Below w.heap.size w wr) := Lib.hid fun wr h => by
    have hlt : w.heap.size < w.heap.size + 1 := Nat.lt_succ_self _
    refine ⟨?_, ?_, ?_, hbel0.out.trans (h.mono (Nat.le_succ _))⟩
    · rw [h.cell (p := ⟨w.heap.size, 0, none⟩) hlt, hw0.out, World.cell?_alloc_at _ _ _ _ rfl]; rfl
    · rw [h.cell (p := ⟨w.heap.size, 1, none⟩) hlt, hw0.out, World.cell?_alloc_at _ _ _ _ rfl]; rfl
    · exact hrh.out.below (hbel0.out.trans (h.mono (Nat.le_succ _))) (Nat.le_refl _)
  go_enter Try.func24, Try.ntmps24
  by_cases h0 : L = 0
  · have hfin := Lib.hid (HF0.out h0)
    have h0i : ((L : Int) == 0) = true := by rw [h0]; rfl
    clear HF0 HF HST HSM HL h0
    go_wp2_with fail
    rw [← hw0.out]
    exact hfin.out _ hbel0.out
  · have h0i : ((L : Int) == 0) = false := by rw [beq_eq_false_iff_ne]; omega
    have hst := Lib.hid (HST.out h0)
    clear HF0 HST h0
    cases bz
    · go_wp2_with fail
      rw [← hw0.out]
      go_loopw [3, 4] (fun v i wr => ∃ (j : Nat) (s : List UInt8), j ≤ L ∧ i = .int .i64 ((j : Int) - 1) ∧ Hid (Tnx tz p j s) ∧ wr.ownsRow (w.heap.size + 1) 5 1 v s.length (bytes s) ∧ Below (w.heap.size + 1) w0 wr) (fun _ i _ => (intOf i + 1).toNat)
      case atStart => exact ⟨L, [], Nat.le_refl _, rfl, hst, World.ownsRow_nil _ _ _ _, Below.refl _ _⟩
      case round =>
        obtain ⟨j, s, hj, rfl, HS, hown, hbel⟩ := hrel
        obtain ⟨c0, c1, hrb, hbw⟩ := hcells.out wr hbel
        have hsl := HL.out j s HS.out
        by_cases hj0 : j = 0
        · subst hj0
          obtain ⟨va, vc, rfl, _, hvc, hrbv⟩ := rb_of_row hown
          have hfin := Lib.hid (HF.out s wr HS.out hbw)
          have hcv := conv_rb hrbv vc
          clear hown hbel hbw hrb hrbv HF HS HL HSM hcells hsz0 hbel0 HG hrh hlph hw0
          generalize s.length = ls at *
          generalize (⟨s.toArray⟩ : ByteArray) = ts at *
          go_wp2
          exact hfin.out
        · obtain ⟨i, rfl⟩ : ∃ i, j = i + 1 := ⟨j - 1, by omega⟩
          rw [show ((i + 1 : Nat) : Int) - 1 = (i : Int) by omega]
          obtain ⟨b, off, rfl, hlt1, hc1⟩ := hrb.at i (by have := hlph.out; omega)
          have hx10 := dg_getD 10 (by omega) p HG.out i
          have HS2 := Lib.hid (HSM.out i s (by omega) HS.out)
          have hfig := Lib.hid (fig_lt (p.getD i 0) hx10)
          have hiL : (i : Int) < L := by omega
          have hown1 := Lib.hid hown
          have hbel1 := Lib.hid hbel
          have hg2 := hbel.size
          clear hown hbel hrb hbw HF HS HL HSM hcells HG hrh hlph
          generalize hfg : fig (p.getD i 0) = fg at *
          have hfgh := Lib.hid hfg
          clear hfg
          generalize (p.getD i 0).toNat = x at *
          go_wp2_with (at_builtin; refine append_byte rfl (.tmp 22) (.tmp 29) 26 rfl Try.underlying26 _ (w.heap.size + 1) _ s.length s fg rfl rfl hown1.out w0 hbel1.out ?c4 ?c5 ?c6 ?_)
          case c4 => have := hsz0.out; omega
          case c5 => omega
          case c6 => rw [hfig.out]; first | omega | (push_cast; omega)
          intro v' w2 hown2 hb2 hsp2
          clear hsp2
          go_wp2
          go_roundw
          case rel => exact ⟨i, s ++ [fg], by omega, by go_num, HS2, by rw [List.length_append]; exact hown2, hb2⟩
          case measure => simp [intOf]
    · have hown0 := Lib.hid (World.ownsRow_nil w0 (w.heap.size + 1) 5 1)
      have hbr := Lib.hid (Below.refl (w.heap.size + 1) w0)
      go_upto_region 5 with fail
      rw [← hw0.out]
      go_wp2_with (at_builtin; refine append_byte rfl (.tmp 11) (.tmp 12) 26 rfl Try.underlying26 _ (w.heap.size + 1) _ 0 [] 45 rfl rfl hown0.out w0 hbr.out ?c1 ?c2 ?c3 ?_)
      case c1 => have := hsz0.out; omega
      intro v1 w1 hown1 hb1 hsp1
      obtain ⟨k0, k1, _, _⟩ := hcells.out w1 hb1
      clear hsp1 hbr hown0
      go_wp2_with fail
      go_loopw [3, 4] (fun v i wr => ∃ (j : Nat) (s : List UInt8), j ≤ L ∧ i = .int .i64 ((j : Int) - 1) ∧ Hid (Tnx tz p j s) ∧ wr.ownsRow (w.heap.size + 1) 5 1 v s.length (bytes s) ∧ Below (w.heap.size + 1) w0 wr) (fun _ i _ => (intOf i + 1).toNat)
      case atStart => exact ⟨L, [45], Nat.le_refl _, rfl, hst, hown1, hb1⟩
      case round =>
        clear hown1 hb1 k0 k1
        obtain ⟨j, s, hj, rfl, HS, hown, hbel⟩ := hrel
        obtain ⟨c0, c1, hrb, hbw⟩ := hcells.out wr hbel
        have hsl := HL.out j s HS.out
        by_cases hj0 : j = 0
        · subst hj0
          obtain ⟨va, vc, rfl, _, hvc, hrbv⟩ := rb_of_row hown
          have hfin := Lib.hid (HF.out s wr HS.out hbw)
          have hcv := conv_rb hrbv vc
          clear hown hbel hbw hrb hrbv HF HS HL HSM hcells hsz0 hbel0 HG hrh hlph hw0
          generalize s.length = ls at *
          generalize (⟨s.toArray⟩ : ByteArray) = ts at *
          go_wp2
          exact hfin.out
        · obtain ⟨i, rfl⟩ : ∃ i, j = i + 1 := ⟨j - 1, by omega⟩
          rw [show ((i + 1 : Nat) : Int) - 1 = (i : Int) by omega]
          obtain ⟨b, off, rfl, hlt1, hc1⟩ := hrb.at i (by have := hlph.out; omega)
          have hx10 := dg_getD 10 (by omega) p HG.out i
          have HS2 := Lib.hid (HSM.out i s (by omega) HS.out)
          have hfig := Lib.hid (fig_lt (p.getD i 0) hx10)
          have hiL : (i : Int) < L := by omega
          have hown1 := Lib.hid hown
          have hbel1 := Lib.hid hbel
          have hg2 := hbel.size
          clear hown hbel hrb hbw HF HS HL HSM hcells HG hrh hlph
          generalize hfg : fig (p.getD i 0) = fg at *
          have hfgh := Lib.hid hfg
          clear hfg
          generalize (p.getD i 0).toNat = x at *
          go_wp2_with (at_builtin; refine append_byte rfl (.tmp 22) (.tmp 29) 26 rfl Try.underlying26 _ (w.heap.size + 1) _ s.length s fg rfl rfl hown1.out w0 hbel1.out ?c4 ?c5 ?c6 ?_)
          case c4 => have := hsz0.out; omega
          case c5 => omega
          case c6 => rw [hfig.out]; first | omega | (push_cast; omega)
          intro v' w2 hown2 hb2 hsp2
          clear hsp2
          go_wp2
          go_roundw
          case rel => exact ⟨i, s ++ [fg], by omega, by go_num, HS2, by rw [List.length_append]; exact hown2, hb2⟩
          case measure => simp [intOf]

set_option maxRecDepth 100000 in
theorem refLong_any (b : Bool) (a : Option Addr) (l cap : Nat) (w : World) :
    Calls Try.prog 45 #[.agg #[.bool b, .slice a l cap]] w fun e w' => e = .returned (.bool (decide (400 < l))) ∧ Below w.heap.size w w' := by
  by_cases h : 400 < l
  all_goals
    have hI : decide ((400 : Int) < (l : Int)) = decide (400 < l) := by rw [decide_eq_decide]; omega
    first | rw [decide_eq_true h] at hI ⊢ | rw [decide_eq_false h] at hI ⊢
    go_enter Try.func45, Try.ntmps45
    go_wp2
    go_ret
    exact ⟨by first | rfl | (show Ending.returned (.bool _) = _; rw [hI]), (Below.refl _ w).alloc (Nat.le_refl _) _⟩
end Go.Proofs.Ytmnopohjnbpinab
