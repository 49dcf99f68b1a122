/-
  Helper: the walk of the reference's Digits.
-/
import Derived.Test.YtmnopohjnbpinabIRefS
import Derived.Test.YtmnopohjnbpinabITextY
namespace Go.Proofs.Ytmnopohjnbpinab
open Go.RowKit
set_option linter.unusedVariables false

def Dgt (b n m : Nat) (t : List UInt8) : Prop := (E b m).reverse.map fig ++ t = (E b n).reverse.map fig
theorem dgt_start (b n : Nat) : Dgt b n n [] := by unfold Dgt; rw [List.append_nil]
theorem dgt_step (b n m : Nat) (t : List UInt8) (hb : 2 ≤ b) (hm : m ≠ 0) (h : Dgt b n m t) : Dgt b n (m / b) (fig (UInt8.ofNat (m % b)) :: t) := by
  unfold Dgt at *
  rw [E_pos b m hb hm] at h
  rw [← h]; simp
theorem dgt_end (b n : Nat) (t : List UInt8) (h : Dgt b n 0 t) : t = (E b n).reverse.map fig := by
  unfold Dgt at h; rw [← h, E_zero]; rfl
theorem dgt_len (b n m : Nat) (t : List UInt8) (h : Dgt b n m t) : t.length ≤ (E b n).length := by
  unfold Dgt at h
  have := congrArg List.length h
  simp at this; omega
/-- the slice of the figures that holds one of them, ahead of a text -/
theorem fig_slice (n : Nat) (h : n < 16) (t : List UInt8) : (⟨#[48, 49, 50, 51, 52, 53, 54, 55, 56, 57, 97, 98, 99, 100, 101, 102]⟩ : ByteArray).extract n (n + 1) ++ ⟨t.toArray⟩ = ⟨(fig (UInt8.ofNat n) :: t).toArray⟩ := by
  have e : (⟨#[48, 49, 50, 51, 52, 53, 54, 55, 56, 57, 97, 98, 99, 100, 101, 102]⟩ : ByteArray).extract n (n + 1) = ⟨[fig (UInt8.ofNat n)].toArray⟩ := by
    have hk : n = 0 ∨ n = 1 ∨ n = 2 ∨ n = 3 ∨ n = 4 ∨ n = 5 ∨ n = 6 ∨ n = 7 ∨ n = 8 ∨ n = 9 ∨ n = 10 ∨ n = 11 ∨ n = 12 ∨ n = 13 ∨ n = 14 ∨ n = 15 := by omega
    rcases hk with rfl | rfl | rfl | rfl | rfl | rfl | rfl | rfl | rfl | rfl | rfl | rfl | rfl | rfl | rfl | rfl <;> decide
  rw [e]
  apply ByteArray.ext
  rw [ByteArray.data_append]
  simp
theorem minus_text (t : List UInt8) : (⟨#[45]⟩ : ByteArray) ++ ⟨t.toArray⟩ = ⟨(45 :: t).toArray⟩ := by
  apply ByteArray.ext
  rw [ByteArray.data_append]
  simp

set_option maxRecDepth 100000 in
set_option maxHeartbeats 4000000 in
theorem refDigits_any (z : Int) (b : Nat) (hb : 2 ≤ b) (hb2 : b ≤ 16) (a : Option Addr) (cap : Nat) (w : World) (hr : Rb w a (E 10 z.natAbs)) (hs : (E 10 z.natAbs).length ≤ 400) :
    Calls Try.prog 16 #[.agg #[.bool (neg z), .slice a (E 10 z.natAbs).length cap], .int .i64 (b : Int)] w (TxtP (Tb b z) w) := by
  have hlb := len_base b z.natAbs 400 hb hs
  have HF0 : Hid ((E 10 z.natAbs).length = 0 → ∀ w', Below w.heap.size w w' → TxtP (Tb b z) w (.returned (.string ⟨#[48]⟩)) w') := fun h w' hb' => by
    have h0 : z.natAbs = 0 := (E_nil 10 _ (by omega)).1 (List.length_eq_zero_iff.1 h)
    have hz : z = 0 := by omega
    subst hz
    exact ⟨rfl, hb'⟩
  have HF : Hid (∀ t, Dgt b z.natAbs 0 t → (E 10 z.natAbs).length ≠ 0 → ∀ w', Below w.heap.size w w' → (neg z = false → TxtP (Tb b z) w (.returned (.string ⟨t.toArray⟩)) w') ∧ (neg z = true → TxtP (Tb b z) w (.returned (.string ⟨(45 :: t).toArray⟩)) w')) := fun t ht h0 w' hb' => by
    have hn0 : z.natAbs ≠ 0 := fun e => by rw [e] at h0; exact h0 rfl
    have hbody : body b z.natAbs = t := by unfold body; rw [if_neg hn0, dgt_end b _ t ht]
    unfold neg
    constructor
    · intro h
      have hz : ¬ z < 0 := of_decide_eq_false h
      refine ⟨?_, hb'⟩
      unfold Tb; rw [if_neg hz, hbody, List.nil_append]
    · intro h
      have hz : z < 0 := of_decide_eq_true h
      refine ⟨?_, hb'⟩
      unfold Tb; rw [if_pos hz, hbody]; rfl
  have HM : Hid (∀ m, m ≤ z.natAbs → (E 10 m).length ≤ 100000) := fun m h => Nat.le_trans (E_len_mono 10 _ _ (by omega) h) (by omega)
  have HN : Hid (∀ m, (E 10 m).length = 0 → m = 0) := fun m h => (E_nil 10 m (by omega)).1 (List.length_eq_zero_iff.1 h)
  have HL : Hid (∀ m t, Dgt b z.natAbs m t → t.length ≤ 1600) := fun m t h => Nat.le_trans (dgt_len b _ m t h) hlb
  have HST : Hid (Dgt b z.natAbs z.natAbs []) := dgt_start _ _
  have HSM := Lib.hid (fun m t (hm : m ≠ 0) => dgt_step b z.natAbs m t hb hm)
  have hrh := Lib.hid hr
  clear hr hlb hs
  generalize hPo : TxtP (Tb b z) w = Po at *
  clear hPo
  generalize neg z = bz at *
  obtain ⟨w0, hw0⟩ : ∃ w0, Hid (w0 = w.alloc (.cells #[.bool bz, .slice a (E 10 z.natAbs).length cap] 28)) := ⟨_, Lib.hid rfl⟩
  have hsz0 : Hid (w0.heap.size = w.heap.size + 1) := by rw [hw0.out]; exact Lib.hid (by simp)
  have hbel0 : Hid (Below w.heap.size w w0) := by rw [hw0.out]; exact Lib.hid ((Below.refl _ w).alloc (Nat.le_refl _) _)
  have hbx0 : Hid (w0.cell? ⟨w.heap.size, 0, none⟩ = some (.bool bz)) := by rw [hw0.out]; exact Lib.hid (by rw [World.cell?_alloc_at _ _ _ _ rfl]; rfl)
  have hrb0 : Hid (Rb w0 a (E 10 z.natAbs)) := Lib.hid (hrh.out.below hbel0.out (Nat.le_refl _))
  go_enter Try.func16, Try.ntmps16
  by_cases h0 : (E 10 z.natAbs).length = 0
  · have hfin := Lib.hid (HF0.out h0)
    have h0i : (((E 10 z.natAbs).length : Int) == 0) = true := by rw [h0]; rfl
    clear HF0 HF HM HN HL HST HSM h0
    generalize (E 10 z.natAbs).length = lz at *
    go_wp2_with fail
    rw [← hw0.out]
    exact hfin.out _ hbel0.out
  · have h0i : (((E 10 z.natAbs).length : Int) == 0) = false := by rw [beq_eq_false_iff_ne]; omega
    have HFx := Lib.hid (fun t ht => HF.out t ht h0)
    have hlz : Hid (∃ lz, (E 10 z.natAbs).length = lz) := ⟨_, rfl⟩
    clear HF0 HF h0
    go_wp2_with fail
    rw [← hw0.out]
    go_loopg [5, 6] z.natAbs (fun gk sv dv wr => ∃ (m : Nat) (ra : Option Addr) (rc : Nat) (t : List UInt8), m ≤ gk ∧ dv = .slice ra (E 10 m).length rc ∧ sv = .string ⟨t.toArray⟩ ∧ Hid (Dgt b z.natAbs m t ∧ m ≤ z.natAbs) ∧ Rb wr ra (E 10 m) ∧ Below w0.heap.size w0 wr)
    case atStart => exact ⟨z.natAbs, a, cap, [], Nat.le_refl _, rfl, rfl, Lib.hid ⟨HST.out, Nat.le_refl _⟩, hrb0.out, Below.refl _ _⟩
    case round =>
      obtain ⟨m, ra, rc, t, hgk, rfl, rfl, HS, hrb, hbel⟩ := hrel
      have hlm := HM.out m HS.out.2
      by_cases hm : (E 10 m).length = 0
      · have hm0 := HN.out m hm
        have hdg := HS.out.1
        rw [hm0] at hdg
        have hfin := Lib.hid (HFx.out t hdg _ (hbel0.out.trans (hbel.mono (by have := hsz0.out; omega))))
        have hc : wr.cell? ⟨w.heap.size, 0, none⟩ = some (.bool bz) := by rw [hbel.cell (by show w.heap.size < _; have := hsz0.out; omega)]; exact hbx0.out
        have hl0 : (E 10 m).length ≤ 0 := by omega
        have htl := HL.out m t HS.out.1
        have hmt := Lib.hid (minus_text t)
        clear hm hm0 hdg hrb HFx HM HN HL HST HSM HS
        generalize (E 10 m).length = lm at *
        cases bz
        · go_wp2_with fail
          exact hfin.out.1 trivial
        · have hsz : (⟨t.toArray⟩ : ByteArray).size = t.length := by simp [ByteArray.size]
          generalize (⟨t.toArray⟩ : ByteArray) = ts at *
          go_wp2_with fail
          have hx := hfin.out.2 trivial
          rw [← hmt.out] at hx
          exact hx
      · have hm0 : m ≠ 0 := by intro e; rw [e] at hm; exact hm rfl
        have hl0 : 0 < (E 10 m).length := by omega
        have hP := Lib.hid (refShort_any m b hb (by omega) ra rc wr hrb hlm)
        have hmod : m % b < 16 := by have := Nat.mod_lt m (show 0 < b by omega); omega
        have hE := Lib.hid (HSM.out m t hm0 HS.out.1)
        have hdiv := Nat.div_lt_self (show 0 < m by omega) (show 1 < b by omega)
        have hfs := Lib.hid (fig_slice (m % b) hmod t)
        have hms := Lib.hid HS.out.2
        have hhs := hbel.size
        have hHL := Lib.hid (HL.out m t HS.out.1)
        clear hm hm0 HFx HM HN HL HST HSM HS hrb
        go_wp2_with fail
        refine hP.out.mono ?_
        rintro e w2 ⟨na, nc, rfl, hnr, hnl, hnb, hb2'⟩
        have hbel2 : Below w0.heap.size w0 w2 := hbel.trans (hb2'.mono hhs)
        have hnrh := Lib.hid hnr
        have hbel2h := Lib.hid hbel2
        clear hbel hb2' hnr hnl hnb hP hbel2
        generalize hdd : m % b = d at *
        have hddh := Lib.hid hdd
        clear hdd
        have hts : (⟨t.toArray⟩ : ByteArray).size ≤ 1600 := by
          have e : (⟨t.toArray⟩ : ByteArray).size = t.length := by simp [ByteArray.size]
          have := hHL.out; omega
        generalize (⟨t.toArray⟩ : ByteArray) = ts at *
        go_wp2_with fail
        go_roundg (m / b)
        case measure => omega
        case rel => exact ⟨m / b, na, nc, fig (UInt8.ofNat d) :: t, Nat.le_refl _, rfl, by rw [hfs.out], Lib.hid ⟨hE.out, by have := hms.out; omega⟩, hnrh.out, hbel2h.out⟩
end Go.Proofs.Ytmnopohjnbpinab
