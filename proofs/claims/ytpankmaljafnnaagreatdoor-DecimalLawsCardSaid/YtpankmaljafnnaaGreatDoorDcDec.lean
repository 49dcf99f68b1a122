/-
  Helper: the functions of decimal at canonical texts, in terms of their numbers.
-/
import Derived.Test.YtpankmaljafnnaaGreatDoorDcAwk
import Derived.Test.YtpankmaljafnnaaGreatDoorDcNear
import Derived.Test.YtpankmaljafnnaaGreatDoorDcOf
namespace Go.Proofs.YtpankmaljafnnaaGreatDoor
open Go.RowKit
set_option linter.unusedVariables false
set_option linter.unusedSimpArgs false

/-- a canonical text -/
def Dec (s : ByteArray) (z x : Int) : Prop := Cn z x ∧ s = mkB (tD z x)
theorem tD_len {z x : Int} (h : Cn z x) : (tD z x).length ≤ 1000 := by
  obtain ⟨h1, h2, h3, h4⟩ := h
  have a1 := T_len z
  have a2 := T_len x
  have a3 : (body 10 x.natAbs).length ≤ 5 := body_len _ _ ((E_len_le 10 _ 5 (by omega)).2 (by omega)) (by omega)
  unfold tD
  rw [List.length_append, List.length_cons]
  omega
theorem Dec.size {s : ByteArray} {z x : Int} (h : Dec s z x) : s.size ≤ 1000 := by
  rw [h.2, mkB_size]; exact tD_len h.1
theorem Dec.rd {s : ByteArray} {z x : Int} (h : Dec s z x) : Hid (∀ w, Tabs w → Calls Tryz.prog 43 #[.string s] w (RdG true z x w)) :=
  rd_at s z x h.1 (by rw [h.2]; rfl) (by have := h.size; omega)
theorem Dec.cn {s : ByteArray} {z x : Int} (h : Dec s z x) : Hid (true = true → Cn z x) := fun _ => h.1
theorem add_D {s t : ByteArray} {z1 x1 z2 x2 : Int} (h1 : Dec s z1 x1) (h2 : Dec t z2 x2) (w : World) (hT : Tabs w) : Calls Tryz.prog 25 #[.string s, .string t] w (TxP (oV (VV z1 x1 + VV z2 x2)) w) := by
  have := Add_of s t true true z1 x1 z2 x2 h1.rd h2.rd h1.cn h2.cn w hT
  rw [Bool.and_true, if_pos rfl, oV_of _ _ (by have := h1.1.2.2.1; have := h2.1.2.2.1; omega), addZ_VV _ _ _ _ (by have := h1.1.2.2.1; omega) (by have := h2.1.2.2.1; omega)] at this
  exact this
theorem mul_D {s t : ByteArray} {z1 x1 z2 x2 : Int} (h1 : Dec s z1 x1) (h2 : Dec t z2 x2) (w : World) (hT : Tabs w) : Calls Tryz.prog 26 #[.string s, .string t] w (TxP (outD (z1 * z2) (x1 + x2)) w) := by
  have := Mul_of s t true true z1 x1 z2 x2 h1.rd h2.rd h1.cn h2.cn w hT
  rw [Bool.and_true, if_pos rfl] at this
  exact this
theorem cmp_D {s t : ByteArray} {z1 x1 z2 x2 : Int} (h1 : Dec s z1 x1) (h2 : Dec t z2 x2) (w : World) (hT : Tabs w) : Calls Tryz.prog 27 #[.string s, .string t] w (fun en w' => en = .returned (.int .i64 (sgI (VV z1 x1 - VV z2 x2))) ∧ Below w.heap.size w w') := by
  have := Cmp_of s t true true z1 x1 z2 x2 h1.rd h2.rd h1.cn h2.cn w hT
  rw [Bool.and_true, if_pos rfl, cmpV_VV _ _ _ _ h1.1 h2.1] at this
  exact this
theorem round_D {s : ByteArray} {z x : Int} (h1 : Dec s z x) (p : Int) (hp1 : -2000 ≤ p) (hp2 : p ≤ 2000) (w : World) (hT : Tabs w) : Calls Tryz.prog 34 #[.string s, .int .i64 p] w (TxP (outD (rndZ z x (-p)) (rndE x (-p))) w) := by
  have := Round_of s true z x p (by omega) (by omega) h1.rd h1.cn w hT
  rw [if_pos rfl, if_neg (by omega)] at this
  exact this
theorem rd_empty : Hid (∀ w, Tabs w → Calls Tryz.prog 43 #[.string ⟨#[]⟩] w (RdG false 0 0 w)) := by
  obtain ⟨ok, z, x, h1, h2, h3⟩ := read_gen ⟨#[]⟩ (by decide)
  cases ok with
  | true =>
    have := (h1 rfl).2
    have h4 : (tD z x).length = 0 := by rw [← this]; rfl
    unfold tD at h4
    rw [List.length_append, List.length_cons] at h4
    omega
  | false =>
    intro w hT
    refine (h3 w hT).mono ?_
    rintro en w' ⟨b, a, n, k, e, rfl, _, hb⟩
    exact ⟨b, a, n, k, e, rfl, (fun g => absurd g (by decide)), hb⟩
theorem mul_none {t : ByteArray} {z2 x2 : Int} (h2 : Dec t z2 x2) (w : World) (hT : Tabs w) : Calls Tryz.prog 26 #[.string ⟨#[]⟩, .string t] w (TxP (⟨#[]⟩, 3) w) := by
  have := Mul_of ⟨#[]⟩ t false true 0 0 z2 x2 rd_empty h2.rd (fun g => absurd g (by decide)) h2.cn w hT
  rw [Bool.false_and, if_neg (by decide)] at this
  exact this
theorem out_empty (z e : Int) (h : (outD z e).2 ≠ 0) : (outD z e).1 = ⟨#[]⟩ := by
  unfold outD at h ⊢
  split
  · rename_i c; rw [if_pos c] at h; exact absurd rfl h
  · rename_i c
    rw [if_neg c] at h
    split
    · rfl
    · rename_i c2
      rw [if_neg c2] at h
      split
      · rfl
      · rename_i c3
        rw [if_neg c3] at h; exact absurd rfl h
theorem oV_dec {V : Int} {t : ByteArray} (h : oV V = (t, 0)) : ∃ z e, Dec t z e ∧ VV z e = V := by
  obtain ⟨z, e, h1, h2, h3⟩ := oV_ok V t h
  exact ⟨z, e, ⟨h1, h2⟩, h3⟩
theorem out_dec {z e : Int} (he : -5000 ≤ e) {t : ByteArray} (h : outD z e = (t, 0)) : ∃ z' e', Dec t z' e' ∧ VV z' e' = VV z e := by
  rw [oV_of z e he] at h
  obtain ⟨z', e', h1, h2⟩ := oV_dec h
  exact ⟨z', e', h1, h2⟩
theorem Dec.inj {s t : ByteArray} {z1 x1 z2 x2 : Int} (h1 : Dec s z1 x1) (h2 : Dec t z2 x2) (h : VV z1 x1 = VV z2 x2) : s = t := by
  obtain ⟨rfl, rfl⟩ := VV_inj _ _ _ _ h1.1 h2.1 h
  rw [h1.2, h2.2]
theorem sgI_le {z : Int} (h : z ≤ 0) : sgI z ≤ 0 := by
  unfold sgI; split
  · decide
  · rw [if_neg (by omega)]; decide
theorem sgI_ge {z : Int} (h : 0 ≤ z) : 0 ≤ sgI z := by
  unfold sgI; rw [if_neg (by omega)]; split <;> decide
end Go.Proofs.YtpankmaljafnnaaGreatDoor
