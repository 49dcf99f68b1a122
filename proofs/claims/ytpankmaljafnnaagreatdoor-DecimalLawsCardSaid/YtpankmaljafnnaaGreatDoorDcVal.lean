/-
  Helper: the walks of integer.Valid and integer.read.
-/
import Derived.Test.YtpankmaljafnnaaGreatDoorIMem
namespace Go.Proofs.YtpankmaljafnnaaGreatDoor
open Go.RowKit
set_option linter.unusedVariables false

theorem pre_char (s : List UInt8) (x : UInt8) : Lib.hasPrefix s [x] = decide (s.head? = some x) ∧ Lib.trimPrefix s [x] = if s.head? = some x then s.tail else s := by
  have h1 : Lib.hasPrefix s [x] = decide (s.head? = some x) := by
    cases s with
    | nil => rfl
    | cons c s =>
      show ((x == c) && true) = _
      rw [Bool.and_true, List.head?_cons]
      by_cases h : x = c
      · subst h; simp
      · rw [beq_eq_false_iff_ne.2 h, decide_eq_false (fun e => h (Option.some.inj e).symm)]
  refine ⟨h1, ?_⟩
  unfold Lib.trimPrefix
  rw [h1]
  by_cases h : s.head? = some x
  · rw [decide_eq_true h, if_pos rfl, if_pos h]
    cases s <;> rfl
  · rw [decide_eq_false h, if_neg (by decide), if_neg h]
/-- the call of CutPrefix at one character -/
theorem cut_minus (s : ByteArray) (w : World) : Calls Tryz.prog 52 #[.string s, .string ⟨#[45]⟩] w fun e w' => e = .returned (.tuple #[.string ⟨(strip s.data.toList).toArray⟩, .bool (decide (s.data.toList.head? = some 45))]) ∧ w = w' :=
  (Tryz.strings_CutPrefix s ⟨#[45]⟩ w).mono fun e w' ⟨he, hw⟩ => ⟨by rw [he, (pre_char s.data.toList 45).1, (pre_char s.data.toList 45).2]; rfl, hw.symm⟩

/-- is a list of characters the canonical text of an integer -/
theorem vld_get (s : List UInt8) : Vld s ↔ (strip s).length ≠ 0 ∧ (strip s).length ≤ 400 ∧ (∀ i, i < (strip s).length → 48 ≤ ((strip s).getD i 0).toNat ∧ ((strip s).getD i 0).toNat ≤ 57) ∧ ((strip s).getD 0 0 ≠ 48 ∨ s = [48]) := by
  unfold Vld
  generalize strip s = d
  constructor
  · rintro ⟨h1, h2, h3, h4⟩
    have hl : d.length ≠ 0 := fun h => h1 (List.length_eq_zero_iff.1 h)
    refine ⟨hl, h2, fun i hi => ?_, ?_⟩
    · rw [List.getD_eq_getElem?_getD, List.getElem?_eq_getElem hi]; exact h3 _ (List.getElem_mem hi)
    · rcases h4 with h4 | h4
      · left; intro h; apply h4
        rw [List.head?_eq_getElem?, ← h, List.getD_eq_getElem?_getD, List.getElem?_eq_getElem (by omega)]; rfl
      · exact .inr h4
  · rintro ⟨h1, h2, h3, h4⟩
    refine ⟨fun h => h1 (by rw [h]; rfl), h2, fun c hc => ?_, ?_⟩
    · obtain ⟨i, hi, rfl⟩ := List.mem_iff_getElem.1 hc
      have := h3 i hi
      rw [List.getD_eq_getElem?_getD, List.getElem?_eq_getElem hi] at this
      exact this
    · rcases h4 with h4 | h4
      · left; intro h; apply h4
        rw [List.head?_eq_getElem?] at h
        rw [List.getD_eq_getElem?_getD, h]; rfl
      · exact .inr h4
noncomputable def vldB (s : List UInt8) : Bool := @decide (Vld s) (Classical.propDecidable _)
theorem vldB_yes (s : List UInt8) (h : Vld s) : vldB s = true := by unfold vldB; exact @decide_eq_true _ (Classical.propDecidable _) h
theorem vldB_no (s : List UInt8) (h : ¬ Vld s) : vldB s = false := by unfold vldB; exact @decide_eq_false _ (Classical.propDecidable _) h
def ValP (s : List UInt8) (w : World) (e : Ending) (w' : World) : Prop := e = .returned (.bool (vldB s)) ∧ w = w'
theorem get_byte (d : List UInt8) (i : Nat) (h : i < d.length) : (⟨d.toArray⟩ : ByteArray).size = d.length := rfl

theorem getD_byte (t : ByteArray) (i : Nat) (h : i < t.size) : t.data.toList.getD i 0 = t[i] := by
  rw [List.getD_eq_getElem?_getD, List.getElem?_eq_getElem (by simpa using h)]; rfl
/-- the text behind the sign -/
def cutT (s : ByteArray) : ByteArray := ⟨(strip s.data.toList).toArray⟩
theorem cutT_list (s : ByteArray) : (cutT s).data.toList = strip s.data.toList := rfl
theorem cutT_size (s : ByteArray) : (cutT s).size = (strip s.data.toList).length := rfl
theorem cutT_le (s : ByteArray) : (cutT s).size ≤ s.size := by
  rw [cutT_size]
  have : s.data.toList.length = s.size := by simp
  unfold strip; split
  · rw [List.length_tail]; omega
  · omega
set_option maxRecDepth 100000 in
set_option maxHeartbeats 2000000 in
theorem valid_any (s : ByteArray) (w : World) (hs : s.size ≤ maxLen) : Calls Tryz.prog 51 #[.string s] w (ValP s.data.toList w) := by
  have HC := Lib.hid (cut_minus s w)
  have HV := Lib.hid (vld_get s.data.toList)
  have HY : Hid (Vld s.data.toList → ValP s.data.toList w (.returned (.bool true)) w) := fun h => ⟨by rw [vldB_yes _ h], rfl⟩
  have HNo : Hid (¬ Vld s.data.toList → ValP s.data.toList w (.returned (.bool false)) w) := fun h => ⟨by rw [vldB_no _ h], rfl⟩
  have hl0 := Nat.le_trans (cutT_le s) hs
  have he48 : Hid (s.data.toList = [48] ↔ s.toList = [48]) := by show _ ↔ _; rw [Lib.toList_data]
  rw [← cutT_list] at HV
  have HCT : Hid (Calls Tryz.prog 52 #[.string s, .string ⟨#[45]⟩] w fun e w' => e = .returned (.tuple #[.string (cutT s), .bool (decide (s.data.toList.head? = some 45))]) ∧ w = w') := HC.out
  have HLn : Hid ((cutT s).data.toList.length = (cutT s).size) := by show _ = _; simp
  unfold maxLen at hl0
  clear HC
  generalize hPo : ValP s.data.toList w = Po at *
  clear hPo
  generalize decide (s.data.toList.head? = some 45) = nb at *
  generalize Vld s.data.toList = V at *
  generalize cutT s = t at *
  rw [HLn.out] at HV
  clear hs HLn
  go_enter Tryz.func51, Tryz.ntmps51
  go_wp2_with fail
  refine HCT.out.mono ?_
  rintro e w' ⟨rfl, rfl⟩
  by_cases h0 : t.size = 0
  · have hte : t.toList = [] := by rw [Lib.toList_data]; exact List.eq_nil_of_length_eq_zero (by rw [← Lib.size_eq]; exact h0)
    have hfin := Lib.hid (HNo.out (fun h => (HV.out.1 h).1 h0))
    clear h0
    go_wp2
    exact hfin.out
  · have hte : t.toList.isEmpty = false := by
      cases h : t.toList.isEmpty with
      | false => rfl
      | true => exact absurd (by rw [List.isEmpty_iff, Lib.toList_data] at h; have := congrArg List.length h; rw [← Lib.size_eq] at this; exact this) h0
    have h0p : 0 < t.size := by omega
    have h0h := Lib.hid h0
    clear h0
    by_cases h4 : 400 < t.size
    · have hfin := Lib.hid (HNo.out (fun h => by have := (HV.out.1 h).2.1; omega))
      have h4i : (400 : Int) < t.size := by omega
      go_wp2
      all_goals exact hfin.out
    · have h4i : (t.size : Int) ≤ 400 := by omega
      go_wp2
      go_loop [20] (fun i => ∃ k : Nat, k ≤ t.size ∧ i = .int .i64 k ∧ Hid (∀ i, i < k → 48 ≤ (t.data.toList.getD i 0).toNat ∧ (t.data.toList.getD i 0).toNat ≤ 57)) (fun i => t.size - (intOf i).toNat)
      case atStart => exact ⟨0, Nat.zero_le _, rfl, fun i hi => absurd hi (Nat.not_lt_zero _)⟩
      case round =>
        obtain ⟨k, hk, rfl, HA⟩ := hrel
        by_cases hlt : k < t.size
        · have hgd := getD_byte t k hlt
          by_cases hd : 48 ≤ (t.data.toList.getD k 0).toNat ∧ (t.data.toList.getD k 0).toNat ≤ 57
          · have HA2 : Hid (∀ i, i < k + 1 → 48 ≤ (t.data.toList.getD i 0).toNat ∧ (t.data.toList.getD i 0).toNat ≤ 57) := fun i hi => by
              by_cases e : i = k
              · rw [e]; exact hd
              · exact HA.out i (by omega)
            rw [hgd] at hd
            have d1 : (48 : Int) ≤ (t[k].toNat : Int) := by omega
            have d2 : (t[k].toNat : Int) ≤ 57 := by omega
            clear hgd hd HA
            go_wp2
            go_round
            case rel => exact ⟨k + 1, by omega, by go_num, HA2⟩
            case measure => simp [intOf]; omega
          · have hfin := Lib.hid (HNo.out (fun h => hd ((HV.out.1 h).2.2.1 k hlt)))
            rw [hgd] at hd
            rcases (show t[k].toNat < 48 ∨ 57 < t[k].toNat by omega) with d1 | d1
            · have d2 : (t[k].toNat : Int) < 48 := by omega
              clear hgd hd HA d1
              go_wp2
              exact hfin.out
            · have d2 : (57 : Int) < (t[k].toNat : Int) := by omega
              have d3 : ¬ (t[k].toNat : Int) < 48 := by omega
              clear hgd hd HA d1
              go_wp2
              exact hfin.out
        · have hkl : (t.size : Int) ≤ k := by omega
          have hke : k = t.size := by omega
          rw [hke] at HA
          have hgd := getD_byte t 0 h0p
          by_cases h48 : t[0] = 48
          · have hq : ((t[0].toNat : Int) != 48) = false := by rw [h48]; rfl
            by_cases hs48 : s.toList = [48]
            · have hfin := Lib.hid (HY.out (HV.out.2 ⟨h0h.out, by omega, HA.out, .inr (he48.out.2 hs48)⟩))
              have hs2 : (s.toList == [48]) = true := by rw [beq_iff_eq]; exact hs48
              clear hgd h48 hs48 hke
              go_wp2
              exact hfin.out
            · have hfin := Lib.hid (HNo.out (fun h => by
                rcases (HV.out.1 h).2.2.2 with g | g
                · exact g (by rw [hgd]; exact h48)
                · exact hs48 (he48.out.1 g)))
              have hs2 : (s.toList == [48]) = false := by rw [beq_eq_false_iff_ne]; exact hs48
              clear hgd h48 hs48 hke
              go_wp2
              exact hfin.out
          · have hfin := Lib.hid (HY.out (HV.out.2 ⟨h0h.out, by omega, HA.out, .inl (by rw [hgd]; exact h48)⟩))
            have hq : ((t[0].toNat : Int) != 48) = true := by
              rw [bne_iff_ne]; intro e; exact h48 (UInt8.toNat_inj.1 (by have : (48 : UInt8).toNat = 48 := rfl; omega))
            clear hgd h48 hke
            go_wp2
            exact hfin.out
end Go.Proofs.YtpankmaljafnnaaGreatDoor
