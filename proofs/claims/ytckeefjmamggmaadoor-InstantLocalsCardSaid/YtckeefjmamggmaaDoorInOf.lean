/-
  Helper: the walk of OfSeconds.
-/
import Derived.Test.YtckeefjmamggmaaDoorInCanW
namespace Go.Proofs.YtckeefjmamggmaaDoor
open Go.RowKit
set_option linter.unusedVariables false

/-- the text of a moment -/
def ofT (y m d C na : Nat) : ByteArray := mkB (canL 3 [y, m, d, C / 3600, C / 60 % 60, C % 60, 0, 0] na) ++ ⟨#[90]⟩
def OfR (n k : Int) (t : ByteArray) (en : Int) : Prop :=
  if k < 0 ∨ 999999999 < k then t = ⟨#[]⟩ ∧ en = 2 else if n < -62167219200 ∨ 253402300799 < n then t = ⟨#[]⟩ ∧ en = 13 else
    ∃ y m d C : Nat, IsD y m d ∧ C < 86400 ∧ dn y m d * 86400 + C = n ∧ t = ofT y m d C k.toNat ∧ en = 0
def OfP (n k : Int) (w : World) (e : Ending) (w' : World) : Prop := ∃ t en, OfR n k t en ∧ e = .returned (.tuple #[.string t, .int .i64 en]) ∧ Below w.heap.size w w'
theorem OfR.det {n k : Int} {t t' : ByteArray} {en en' : Int} (h : OfR n k t en) (h' : OfR n k t' en') : t = t' ∧ en = en' := by
  unfold OfR at h h'
  split at h <;> rename_i c1
  · rw [if_pos c1] at h'; exact ⟨h.1.trans h'.1.symm, h.2.trans h'.2.symm⟩
  · rw [if_neg c1] at h'
    split at h <;> rename_i c2
    · rw [if_pos c2] at h'; exact ⟨h.1.trans h'.1.symm, h.2.trans h'.2.symm⟩
    · rw [if_neg c2] at h'
      obtain ⟨y, m, d, C, hD, hC, hn, rfl, rfl⟩ := h
      obtain ⟨y', m', d', C', hD', hC', hn', rfl, rfl⟩ := h'
      have e1 : dn y m d = dn y' m' d' := by omega
      obtain ⟨a, b, c⟩ := dn_inj _ _ _ _ _ _ hD hD' e1
      obtain rfl : y = y' := by omega
      obtain rfl : m = m' := by omega
      obtain rfl : d = d' := by omega
      obtain rfl : C = C' := by omega
      exact ⟨rfl, rfl⟩
set_option maxHeartbeats 2000000 in
theorem of_range (n k : Int) (w : World) (h : k < 0 ∨ 999999999 < k) : Calls Tryd.prog 15 #[.int .i64 n, .int .i64 k] w (OfP n k w) := by
  have HF : Hid (∀ w', Below w.heap.size w w' → OfP n k w (.returned (.tuple #[.string ⟨#[]⟩, .int .i64 2])) w') := fun w' hb => ⟨_, _, by unfold OfR; rw [if_pos h]; exact ⟨rfl, rfl⟩, rfl, hb⟩
  generalize OfP n k w = Po at *
  rcases h with h | h
  · go_enter Tryd.func15, Tryd.ntmps15
    go_wp2
    exact HF.out _ (Below.refl _ _)
  · have h0 : ¬ k < 0 := by omega
    go_enter Tryd.func15, Tryd.ntmps15
    go_wp2
    exact HF.out _ (Below.refl _ _)
set_option maxHeartbeats 2000000 in
theorem of_time (n k : Int) (w : World) (h0 : ¬ k < 0) (h1 : ¬ 999999999 < k) (h : n < -62167219200 ∨ 253402300799 < n) : Calls Tryd.prog 15 #[.int .i64 n, .int .i64 k] w (OfP n k w) := by
  have HF : Hid (∀ w', Below w.heap.size w w' → OfP n k w (.returned (.tuple #[.string ⟨#[]⟩, .int .i64 13])) w') := fun w' hb => ⟨_, _, by unfold OfR; rw [if_neg (by omega), if_pos h]; exact ⟨rfl, rfl⟩, rfl, hb⟩
  generalize OfP n k w = Po at *
  rcases h with h | h
  · go_enter Tryd.func15, Tryd.ntmps15
    go_wp2
    exact HF.out _ (Below.refl _ _)
  · have h2 : ¬ n < -62167219200 := by omega
    go_enter Tryd.func15, Tryd.ntmps15
    go_wp2
    exact HF.out _ (Below.refl _ _)
set_option maxRecDepth 100000 in
set_option maxHeartbeats 4000000 in
theorem of_yes (D C na : Nat) (n : Int) (hn : n = 86400 * D + C - 62167219200) (w : World) (hT : Tabs w) (hC : C < 86400) (hD : D ≤ 3652424) (hna : na ≤ 999999999) :
    Calls Tryd.prog 15 #[.int .i64 n, .int .i64 na] w (OfP n na w) := by
  have HF : Hid (∀ y m d : Nat, IsD y m d → dn y m d = (D : Int) - 719528 → ∀ w', Below w.heap.size w w' → OfP n na w (.returned (.tuple #[.string (mkB (canL 3 [y, m, d, C / 3600, C / 60 % 60, C % 60, 0, 0] na) ++ ⟨#[90]⟩), .int .i64 0])) w') := fun y m d h1 h2 w' hb =>
    ⟨_, _, by unfold OfR; rw [if_neg (by omega), if_neg (by omega)]; exact ⟨y, m, d, C, h1, hC, by omega, rfl, rfl⟩, rfl, hb⟩
  have HDt := Lib.hid (date_yes ((D : Int) - 719528) w hT.2.1 (by omega) (by omega))
  have HCan : Hid (∀ (y m d : Nat) W, IsD y m d → Below w.heap.size w W → Calls Tryd.prog 22 #[.agg #[.int .i64 3, .int .i64 y, .int .i64 m, .int .i64 d, .int .i64 ((C / 3600 : Nat) : Int), .int .i64 ((C / 60 % 60 : Nat) : Int), .int .i64 ((C % 60 : Nat) : Int), .int .i64 0, .int .i64 0, .int .i64 na, .int .u8 0]] W (StrP (canL 3 [y, m, d, C / 3600, C / 60 % 60, C % 60, 0, 0] na) W)) := fun y m d W h1 hb => by
    obtain ⟨i0, i1, i2, i3, i4, i5⟩ := h1
    have := (ml_bound (leap y) m).2
    exact canonical_any 3 [y, m, d, C / 3600, C / 60 % 60, C % 60, 0, 0] na 0 rfl (fun k => by
      match k with
      | 0 => show y ≤ _; omega
      | 1 => show m ≤ _; omega
      | 2 => show d ≤ _; omega
      | 3 => show C / 3600 ≤ _; omega
      | 4 => show C / 60 % 60 ≤ _; omega
      | 5 => show C % 60 ≤ _; omega
      | 6 => show 0 ≤ _; omega
      | 7 => show 0 ≤ _; omega
      | k + 8 => show 0 ≤ _; omega) hna W (hT.below hb hT.1)
  have HL : Hid (∀ (y m d : Nat), IsD y m d → (mkB (canL 3 [y, m, d, C / 3600, C / 60 % 60, C % 60, 0, 0] na)).size ≤ 5000) := fun y m d h1 => by
    obtain ⟨i0, i1, i2, i3, i4, i5⟩ := h1
    have := (ml_bound (leap y) m).2
    have hb : ∀ k, [y, m, d, C / 3600, C / 60 % 60, C % 60, 0, 0].getD k 0 ≤ 1000000000 := fun k => by
      match k with
      | 0 => show y ≤ _; omega
      | 1 => show m ≤ _; omega
      | 2 => show d ≤ _; omega
      | 3 => show C / 3600 ≤ _; omega
      | 4 => show C / 60 % 60 ≤ _; omega
      | 5 => show C % 60 ≤ _; omega
      | 6 => show 0 ≤ _; omega
      | 7 => show 0 ≤ _; omega
      | k + 8 => show 0 ≤ _; omega
    rw [mkB_size]
    have h1 := wrL_len _ 0 3 45 hb (by omega)
    have h2 := wrL_len _ 3 3 58 hb (by omega)
    have h3 := frL_len na hna
    unfold canL
    rw [if_neg (by omega), if_neg (by omega)]
    simp only [List.length_append, List.length_cons, List.length_nil]; omega
  have e1 : n - -62167219200 = 86400 * (D : Int) + C := by omega
  have e1b : n + 62167219200 = 86400 * (D : Int) + C := by omega
  have e2 : (86400 * (D : Int) + C).tdiv 86400 = D := by rw [Int.tdiv_eq_ediv_of_nonneg (by omega)]; omega
  have e3 : (86400 * (D : Int) + C).tmod 86400 = C := by rw [Int.tmod_eq_emod_of_nonneg (by omega)]; omega
  have e4 : (C : Int).tdiv 3600 = ((C / 3600 : Nat) : Int) := by rw [Int.tdiv_eq_ediv_of_nonneg (by omega)]; omega
  have e5 : (C : Int).tdiv 60 = ((C / 60 : Nat) : Int) := by rw [Int.tdiv_eq_ediv_of_nonneg (by omega)]; omega
  have e6 : ((C / 60 : Nat) : Int).tmod 60 = ((C / 60 % 60 : Nat) : Int) := by rw [Int.tmod_eq_emod_of_nonneg (by omega)]; omega
  have e7 : (C : Int).tmod 60 = ((C % 60 : Nat) : Int) := by rw [Int.tmod_eq_emod_of_nonneg (by omega)]; omega
  have b1 : ¬ n < -62167219200 := by omega
  have b2 : ¬ 253402300799 < n := by omega
  have b3 : (D : Int) ≤ 3652424 := by omega
  have hPo := OfP n na w
  generalize OfP n na w = Po at *
  clear hT hPo
  go_enter Tryd.func15, Tryd.ntmps15
  go_wp2_with fail
  rw [show (D : Int) + -719528 = D - 719528 by omega]
  refine HDt.out.mono ?_
  rintro e w1 ⟨y', m', d', hI, hdn, rfl, hb⟩
  obtain ⟨y, rfl⟩ : ∃ y : Nat, y' = y := ⟨y'.toNat, by obtain ⟨i0, _⟩ := hI; omega⟩
  obtain ⟨m, rfl⟩ : ∃ m : Nat, m' = m := ⟨m'.toNat, by obtain ⟨_, _, i0, _⟩ := hI; omega⟩
  obtain ⟨d, rfl⟩ : ∃ d : Nat, d' = d := ⟨d'.toNat, by obtain ⟨_, _, _, _, i0, _⟩ := hI; omega⟩
  have HF2 := Lib.hid (HF.out y m d hI hdn)
  have HC2 := Lib.hid (fun W => HCan.out y m d W hI)
  have HL2 := HL.out y m d hI
  have hbh := Lib.hid hb
  clear HF HCan HL hI hdn hb HDt
  unfold StrP at HC2
  generalize mkB (canL 3 [y, m, d, C / 3600, C / 60 % 60, C % 60, 0, 0] na) = tx9 at *
  have l1 : (9223372036854775807 < tx9.size + 1) = False := eq_false (by omega)
  have hb1 : Hid (w.heap.size ≤ w1.heap.size) := hbh.out.size
  go_wp2_with fail
  have hba : Hid (Below w.heap.size w (w1.alloc (.cells #[.int .i64 3, .int .i64 y, .int .i64 m, .int .i64 d, .int .i64 ((C / 3600 : Nat) : Int), .int .i64 ((C / 60 % 60 : Nat) : Int), .int .i64 ((C % 60 : Nat) : Int), .int .i64 0, .int .i64 0, .int .i64 na, .int .u8 0] 43))) := hbh.out.alloc hb1.out _
  rw [show (C : Int) / 3600 = ((C / 3600 : Nat) : Int) by omega, show (C : Int) / 60 % 60 = ((C / 60 % 60 : Nat) : Int) by omega, show (C : Int) % 60 = ((C % 60 : Nat) : Int) by omega]
  refine (HC2.out _ hba.out).mono ?_
  rintro e w2 ⟨rfl, hb2⟩
  have hfin := Lib.hid (HF2.out w2 (bt hba hb2).out)
  clear hb2 hba hbh
  go_wp2
  exact hfin.out
end Go.Proofs.YtckeefjmamggmaaDoor
