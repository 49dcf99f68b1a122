/-
  Helper: the walk of decimal.Of.
-/
import Derived.Test.YtpankmaljafnnaaGreatDoorDcRound
namespace Go.Proofs.YtpankmaljafnnaaGreatDoor
open Go.RowKit
set_option linter.unusedVariables false
set_option linter.unusedSimpArgs false

set_option maxRecDepth 100000 in
set_option maxHeartbeats 2000000 in
theorem Of_no (p : ByteArray) (e : Int) (hs : p.size ≤ maxLen) (hv : ¬ Vld p.data.toList) (w : World) :
    Calls Tryz.prog 22 #[.string p, .int .i64 e] w (TxP (⟨#[]⟩, 3) w) := by
  have HV := Lib.hid (valid_any p w hs)
  unfold ValP at HV
  rw [vldB_no _ hv] at HV
  clear hv hs
  have HF : Hid (TxP (⟨#[]⟩, 3) w (Ending.returned (.tuple #[.string ⟨#[]⟩, .int .i64 3])) w) := ⟨rfl, Below.refl _ _⟩
  generalize TxP (⟨#[]⟩, 3) w = Po at *
  go_enter Tryz.func22, Tryz.ntmps22
  go_wp2_with fail
  refine HV.out.mono ?_
  rintro en w' ⟨rfl, rfl⟩
  go_wp2
  exact HF.out
set_option maxRecDepth 100000 in
set_option maxHeartbeats 2000000 in
theorem Of_yes (p : ByteArray) (z e : Int) (he0 : -9223372036854775808 ≤ e) (he1 : e ≤ 9223372036854775807) (hz1 : Sh z) (hpz : p.data.toList = T z) (w : World) (hT : Tabs w) :
    Calls Tryz.prog 22 #[.string p, .int .i64 e] w (TxP (outD z e) w) := by
  have hbl := (sh_body z).1 hz1
  have hps : p.size ≤ maxLen := by
    have h1 : p.size = (T z).length := by rw [← hpz]; simp
    have h2 := T_len z
    unfold maxLen; omega
  have HV := Lib.hid (valid_any p w hps)
  unfold ValP at HV
  rw [vldB_yes _ (by rw [hpz]; exact vld_T z hz1)] at HV
  have HM : Hid (∀ W, Calls Tryz.prog 52 #[.string p, .string ⟨#[45]⟩] W fun e w' => e = .returned (.tuple #[.string (cutT p), .bool (neg z)]) ∧ W = w') := fun W => by
    have := cut_minus p W
    have hn : decide ((T z).head? = some 45) = neg z := by
      unfold T Tb neg
      by_cases h : z < 0
      · rw [if_pos h, decide_eq_true h]; rfl
      · rw [if_neg h, List.nil_append, decide_eq_false h, decide_eq_false (body_no_minus _)]
    rw [hpz, hn, ← hpz] at this
    exact this
  have hcp : (cutT p).data.toList = body 10 z.natAbs := by rw [cutT_list, hpz, strip_T]
  have HW : Hid (∀ (W : World) (g : Nat), g < W.heap.size → W.cell? ⟨g, 0, none⟩ = some (.string (cutT p)) → Calls Tryz.prog 53 #[.bool (neg z), .int .i64 e, .slice (some ⟨g, 0, none⟩) 1 1] W (NumR (neg z) (body 10 z.natAbs) e W)) := fun W g hg hc => by
    have hcat : cat [cutT p] = body 10 z.natAbs := by unfold cat; simp [hcp]
    have := new_any (neg z) e [cutT p] g 1 W hg (Nat.le_refl _) (by simp) (fun i t hi => by
      match i, hi with
      | 0, hi => simp at hi; subst hi; exact hc) (by rw [hcat]; omega)
    rw [hcat] at this
    exact this
  obtain ⟨W3, hW3⟩ : ∃ W3, w.alloc (.cells #[.string (cutT p)] 9) = W3 := ⟨_, rfl⟩
  obtain ⟨N, hN⟩ : ∃ N, w.heap.size = N := ⟨_, rfl⟩
  have q3 : Below w.heap.size w W3 := by rw [← hW3]; exact (Below.refl _ w).alloc (Nat.le_refl _) _
  have hg3 : N < W3.heap.size := by rw [← hW3, ← hN]; simp
  have hc3 : W3.cell? ⟨N, 0, none⟩ = some (.string (cutT p)) := by rw [← hW3, ← hN]; exact cell_of_row _ _ 0 _ _ (0, 0) (heap_alloc_new w _)
  have HW3 := Lib.hid (HW.out W3 N hg3 hc3)
  unfold NumR at HW3
  have HTx : Hid (∀ V a c, Below W3.heap.size W3 V → (body 10 z.natAbs).length ≤ c → Rb V a (body 10 z.natAbs) → Calls Tryz.prog 39 #[.agg (nvl (neg z) a (body 10 z.natAbs).length c e).toArray] V (fun en w' => en = .returned (.tuple #[.string (outD z e).1, .int .i64 (outD z e).2]) ∧ Below w.heap.size w w')) := fun V a c h1 h2 h3 => by
    have := text_any (neg z) (body 10 z.natAbs) (body_AD _) (by omega) e he0 he1 a c h2 V h3 (hT.go (q3.trans (h1.mono q3.size)))
    rw [numv_body, zi_self] at this
    refine this.mono ?_
    rintro en w' ⟨rfl, g2⟩
    have q4 := q3.trans (h1.mono q3.size)
    exact ⟨rfl, q4.trans (g2.mono q4.size)⟩
  have HF : Hid (∀ w', Below w.heap.size w w' → TxP (outD z e) w (Ending.returned (.tuple #[.string (outD z e).1, .int .i64 (outD z e).2])) w') := fun w' g => ⟨rfl, g⟩
  generalize TxP (outD z e) w = Po at *
  generalize outD z e = r at *
  clear hT hpz hps q3 hg3 hc3 HW hcp hbl hz1
  generalize (body 10 z.natAbs).length = n at *
  go_enter Tryz.func22, Tryz.ntmps22
  go_wp2_with fail
  refine HV.out.mono ?_
  rintro en w' ⟨rfl, rfl⟩
  clear HV
  go_wp2_with fail
  refine (HM.out _).mono ?_
  rintro en w' ⟨rfl, rfl⟩
  clear HM
  go_wp2_with fail
  refine HW3.out.mono ?_
  rintro en w4 ⟨a, c, rfl, u1, u2, u3⟩
  have hx := Lib.hid (HTx.out w4 a c u3 u1 u2)
  clear HW3 HTx u1 u2 u3
  go_wp2_with fail
  refine hx.out.mono ?_
  rintro en w5 ⟨rfl, q7⟩
  have hfin := Lib.hid (HF.out w5 q7)
  clear HF hx q7
  go_wp2
  exact hfin.out
end Go.Proofs.YtpankmaljafnnaaGreatDoor
