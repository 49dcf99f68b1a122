/-
  Helper: the walk of decimal.Text.
-/
import Derived.Test.YtpankmaljafnnaaGreatDoorDcPla
namespace Go.Proofs.YtpankmaljafnnaaGreatDoor
open Go.RowKit
set_option linter.unusedVariables false
set_option linter.unusedSimpArgs false

/-- the text form of a decimal -/
def txtB (z x : Int) : ByteArray := sgnB (neg z) (if plS (body 10 z.natAbs).length x ≤ 20 then plnB (body 10 z.natAbs) x else sciB (body 10 z.natAbs) x)
theorem plain_any (b : Bool) (l : List UInt8) (e : Int) (a : Option Addr) (cap : Nat) (hl0 : 1 ≤ l.length) (hl : l.length ≤ 1000) (hcap : l.length ≤ cap) (h1 : -10000 ≤ e) (h2 : e ≤ 10000) (w : World) (hr : Rb w a l) :
    Calls Tryz.prog 48 #[.agg (nvl b a l.length cap e).toArray] w (fun en w' => en = .returned (.string (plnB l e)) ∧ Below w.heap.size w w') := by
  by_cases h : 0 ≤ e
  · obtain ⟨j, rfl⟩ : ∃ j : Nat, e = (j : Int) := ⟨e.toNat, by omega⟩
    have := plain_pos b l j a cap hl0 hl (by omega) w hr
    have e1 : plnB l (j : Int) = mkB l ++ mkB (List.replicate j 48) ++ ⟨#[46, 48]⟩ := by unfold plnB; rw [if_pos h, Int.toNat_natCast]
    rw [e1]; exact this
  · have hp : plS l.length e = max (l.length : Int) (1 - e) := if_neg h
    obtain ⟨W, hW⟩ : ∃ W : Nat, plS l.length e = (W : Int) := ⟨(plS l.length e).toNat, by omega⟩
    obtain ⟨P, hP⟩ : ∃ P : Nat, (W : Int) + e = (P : Int) := ⟨((W : Int) + e).toNat, by omega⟩
    have := plain_neg b l e a cap hl0 hl hcap (by omega) h1 W P hW hP w hr
    have e1 : plnB l e = (mkB (spreadL l W 0)).extract 0 P ++ ⟨#[46]⟩ ++ (mkB (spreadL l W 0)).extract P W := by
      unfold plnB; rw [if_neg h, hW, hP, Int.toNat_natCast, Int.toNat_natCast]
    rw [e1]; exact this
theorem plnB_size (l : List UInt8) (e : Int) (hl : l.length ≤ 1000) (h1 : -10000 ≤ e) (h2 : e ≤ 10000) : (plnB l e).size ≤ 100000 := by
  unfold plnB
  split
  · rw [ByteArray.size_append, ByteArray.size_append, mkB_size, mkB_size, List.length_replicate]
    have : (⟨#[46, 48]⟩ : ByteArray).size = 2 := rfl
    omega
  · rename_i h
    have hp : plS l.length e = max (l.length : Int) (1 - e) := if_neg h
    rw [ByteArray.size_append, ByteArray.size_append, ByteArray.size_extract, ByteArray.size_extract, mkB_size, len_spread _ _ _ (by omega)]
    have : (⟨#[46]⟩ : ByteArray).size = 1 := rfl
    omega
theorem sciB_size (l : List UInt8) (e : Int) (hl : l.length ≤ 1000) (h1 : -10000 ≤ e) (h2 : e ≤ 10000) : (sciB l e).size ≤ 100000 := by
  unfold sciB sciT
  have h3 := mkB_T_small (e + (l.length : Int) - 1) (by omega) (by omega)
  have h4 : (⟨#[101]⟩ : ByteArray).size = 1 := rfl
  have h5 : (⟨#[46]⟩ : ByteArray).size = 1 := rfl
  rw [ByteArray.size_append, ByteArray.size_append]
  split
  · rw [ByteArray.size_append, ByteArray.size_append, mkB_size, mkB_size, List.length_take, List.length_drop]; omega
  · rw [mkB_size, List.length_take]; omega
set_option maxRecDepth 100000 in
set_option maxHeartbeats 2000000 in
theorem Text_of (s : ByteArray) (ok1 : Bool) (z x : Int) (H1 : Hid (∀ w, Tabs w → Calls Tryz.prog 43 #[.string s] w (RdG ok1 z x w))) (C1 : Hid (ok1 = true → Cn z x)) (w : World) (hT0 : Tabs w) :
    Calls Tryz.prog 20 #[.string s] w (fun en w' => en = .returned (.string (if ok1 then txtB z x else ⟨#[]⟩)) ∧ Below w.heap.size w w') := by
  have hT := Lib.hid hT0
  clear hT0
  have HF : Hid (∀ r w', (if ok1 then txtB z x else ⟨#[]⟩) = r → Below w.heap.size w w' → (fun (en : Ending) (w' : World) => en = .returned (.string (if ok1 then txtB z x else ⟨#[]⟩)) ∧ Below w.heap.size w w') (Ending.returned (.string r)) w') := fun r w' g1 g2 => ⟨by rw [g1], g2⟩
  generalize (fun (en : Ending) (w' : World) => en = .returned (.string (if ok1 then txtB z x else ⟨#[]⟩)) ∧ Below w.heap.size w w') = Po at *
  go_enter Tryz.func20, Tryz.ntmps20
  go_wp2_with fail
  refine (H1.out w hT.out).mono ?_
  rintro en w1 ⟨b1, a1, n1, k1, e1, rfl, h1, q1⟩
  have h1h := Lib.hid h1
  have q1h := Lib.hid q1
  clear h1 q1 H1
  obtain ⟨G1, hG1⟩ : ∃ G, w1.heap.size = G := ⟨_, rfl⟩
  obtain ⟨wk, hwk⟩ : ∃ wk, w1.alloc (.cells #[.bool b1, .slice a1 n1 k1, .int .i64 e1] 61) = wk := ⟨_, rfl⟩
  have qk : Hid (Below w1.heap.size w1 wk) := by rw [← hwk]; exact (Below.refl _ w1).alloc (Nat.le_refl _) _
  have hBk : Hid (Blk wk G1 61 (nvl b1 a1 n1 k1 e1)) := by rw [← hwk, ← hG1]; exact Blk.new w1 _ _
  have q2 : Hid (Below w.heap.size w wk) := q1h.out.trans (qk.out.mono q1h.out.size)
  cases ok1 with
  | false =>
    have hfin := Lib.hid (HF.out ⟨#[]⟩ wk rfl q2.out)
    clear HF h1h C1 hBk q2 qk q1h
    go_wp2
    exact hfin.out
  | true =>
    obtain ⟨r1, r2, r3, r4, r5⟩ := h1h.out rfl
    obtain ⟨y1, y2, y3, y4⟩ := C1.out rfl
    subst r1 r2 r3
    have hrk : Rb wk a1 (body 10 z.natAbs) := r5.go qk.out
    have hp0 := List.length_pos_iff.2 (body_ne 10 z.natAbs (by omega))
    have HPs := Lib.hid (fun V => plainSize_any (neg z) (body 10 z.natAbs).length e1 a1 k1 (by omega) (by omega) (by omega) V)
    have HPl : Hid (∀ V, Below wk.heap.size wk V → Calls Tryz.prog 48 #[.agg (nvl (neg z) a1 (body 10 z.natAbs).length k1 e1).toArray] V (fun en w' => en = .returned (.string (plnB (body 10 z.natAbs) e1)) ∧ Below V.heap.size V w')) := fun V h => plain_any (neg z) (body 10 z.natAbs) e1 a1 k1 hp0 (by omega) r4 (by omega) (by omega) V (hrk.go h)
    have HSc : Hid (∀ V, Below wk.heap.size wk V → Calls Tryz.prog 49 #[.agg (nvl (neg z) a1 (body 10 z.natAbs).length k1 e1).toArray] V (fun en w' => en = .returned (.string (sciB (body 10 z.natAbs) e1)) ∧ Below V.heap.size V w')) := fun V h => sci_any (neg z) (body 10 z.natAbs) e1 a1 k1 hp0 (by omega) r4 (by omega) (by omega) V (hrk.go h) (hT.out.go (q2.out.trans (h.mono q2.out.size)))
    have hs1 := plnB_size (body 10 z.natAbs) e1 (by omega) (by omega) (by omega)
    have hs2 := sciB_size (body 10 z.natAbs) e1 (by omega) (by omega) (by omega)
    have HF2 : Hid (∀ t w', (if plS (body 10 z.natAbs).length e1 ≤ 20 then plnB (body 10 z.natAbs) e1 else sciB (body 10 z.natAbs) e1) = t → Below w.heap.size w w' → Po (.returned (.string (sgnB (neg z) t))) w') := fun t w' h g => HF.out _ w' (by rw [← h]; rfl) g
    have HX : Hid (∀ V, Below wk.heap.size wk V → V.cell? ⟨G1, 0, none⟩ = some (.bool (neg z)) ∧ V.cell? ⟨G1, 1, none⟩ = some (.slice a1 (body 10 z.natAbs).length k1) ∧ V.cell? ⟨G1, 2, none⟩ = some (.int .i64 e1)) := fun V h => by
      have := hBk.out.go h hBk.out.lt
      exact ⟨this.cell 0 _ rfl, this.cell 1 _ rfl, this.cell 2 _ rfl⟩
    generalize plnB (body 10 z.natAbs) e1 = PL at *
    generalize sciB (body 10 z.natAbs) e1 = SC at *
    generalize plS (body 10 z.natAbs).length e1 = ps at *
    generalize (body 10 z.natAbs).length = n1 at *
    generalize neg z = b1 at *
    have HSg := Lib.hid (fun t (ht : t.size ≤ 1000000) V => signed_any b1 t ht V)
    clear hrk r4 r5 y1 y2 y3 y4 hBk h1h C1 HF q1h qk hT
    obtain ⟨c0, c1, c2⟩ := HX.out wk (Below.refl _ wk)
    go_wp2_with fail
    clear hwk
    refine (HPs.out _).mono ?_
    rintro en w2 ⟨rfl, q3⟩
    have q3h := Lib.hid q3
    clear q3 c0 c1 c2 HPs
    have q4 : Hid (Below w.heap.size w w2.drew) := (q2.out.trans (q3h.out.mono q2.out.size)).drew
    have q5 : Hid (Below wk.heap.size wk w2.drew) := q3h.out.drew
    obtain ⟨c0, c1, c2⟩ := HX.out w2 q3h.out
    obtain ⟨d0, d1, d2⟩ := HX.out w2.drew q5.out
    by_cases hc : ps ≤ 20
    · rw [if_pos hc] at HF2
      have HS1 := Lib.hid (fun V => HSg.out PL (by omega) V)
      clear HSg HSc
      go_wp2_with fail
      go_region_law (first
        | (go_simp; go_at_call 48; refine (HPl.out _ q5.out).mono ?_; rintro en w3 ⟨rfl, q6⟩; have q7 := Lib.hid (q5.out.trans (q6.mono q5.out.size)); have q8 := Lib.hid (q4.out.trans (q6.mono q4.out.size)); clear q6; obtain ⟨z0, z1, z2⟩ := HX.out w3 q7.out)
        | (go_simp; go_at_call 44; refine (HS1.out _).mono ?_; rintro en w4 ⟨rfl, rfl⟩))
      all_goals
        have hfin := Lib.hid (HF2.out PL w3 rfl q8.out)
        first | (go_wp2; exact hfin.out) | (go_simp; go_wp2; exact hfin.out) | (go_simp; exact hfin.out)
    · rw [if_neg hc] at HF2
      have hc2 : ¬ ps ≤ 20 := hc
      have HS1 := Lib.hid (fun V => HSg.out SC (by omega) V)
      clear HSg HPl
      go_wp2_with fail
      go_region_law (first
        | (go_simp; go_at_call 49; refine (HSc.out _ q5.out).mono ?_; rintro en w3 ⟨rfl, q6⟩; have q7 := Lib.hid (q5.out.trans (q6.mono q5.out.size)); have q8 := Lib.hid (q4.out.trans (q6.mono q4.out.size)); clear q6; obtain ⟨z0, z1, z2⟩ := HX.out w3 q7.out)
        | (go_simp; go_at_call 44; refine (HS1.out _).mono ?_; rintro en w4 ⟨rfl, rfl⟩))
      all_goals
        have hfin := Lib.hid (HF2.out SC w3 rfl q8.out)
        first | (go_wp2; exact hfin.out) | (go_simp; go_wp2; exact hfin.out) | (go_simp; exact hfin.out)
end Go.Proofs.YtpankmaljafnnaaGreatDoor
