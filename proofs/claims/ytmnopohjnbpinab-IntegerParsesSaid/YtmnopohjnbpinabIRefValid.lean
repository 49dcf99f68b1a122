/-
  Helper: the walk of the reference's Valid.
-/
import Derived.Test.YtmnopohjnbpinabIRead
namespace Go.Proofs.Ytmnopohjnbpinab
open Go.RowKit
set_option linter.unusedVariables false

theorem strip_drop (s : List UInt8) (a : Nat) (ha : a = if s.head? = some 45 then 1 else 0) : strip s = s.drop a := by
  subst ha; unfold strip
  split
  · exact List.drop_one.symm
  · rfl
theorem vld_at (s : List UInt8) (a : Nat) (ha : a = if s.head? = some 45 then 1 else 0) : Vld s ↔ a ≠ s.length ∧ s.length - a ≤ 400 ∧ (∀ i, a ≤ i → i < s.length → 48 ≤ (s.getD i 0).toNat ∧ (s.getD i 0).toNat ≤ 57) ∧ (s.getD a 0 ≠ 48 ∨ s.length ≤ 1) := by
  have hle : a ≤ s.length := by
    subst ha
    split
    · rename_i h; cases s with
      | nil => cases h
      | cons c l => simp
    · omega
  have hg : ∀ i, (s.drop a).getD i 0 = s.getD (a + i) 0 := fun i => by
    rw [List.getD_eq_getElem?_getD, List.getD_eq_getElem?_getD, List.getElem?_drop]
  rw [vld_get, strip_drop s a ha, List.length_drop, hg]
  constructor
  · rintro ⟨h1, h2, h3, h4⟩
    refine ⟨by omega, h2, fun i hi hl => ?_, ?_⟩
    · have := h3 (i - a) (by omega)
      rw [hg, show a + (i - a) = i by omega] at this; exact this
    · rcases h4 with h4 | h4
      · exact .inl h4
      · right; rw [h4]; decide
  · rintro ⟨h1, h2, h3, h4⟩
    refine ⟨by omega, h2, fun i hi => ?_, ?_⟩
    · rw [hg]; exact h3 (a + i) (by omega) (by omega)
    · by_cases h : s.getD a 0 = 48
      · right
        rcases h4 with h4 | h4
        · exact absurd h h4
        · have ha0 : a = 0 := by omega
          rw [ha0] at h
          match s, h4, h with
          | [c], _, h => simp at h; rw [h]
          | [], _, h => simp at h
      · left; exact h
def atN (s : List UInt8) : Nat := if s.head? = some 45 then 1 else 0
set_option maxRecDepth 100000 in
set_option maxHeartbeats 2000000 in
theorem refValid_any (s : ByteArray) (w : World) (hs : s.size ≤ 1000000) : Calls Try.prog 13 #[.string s] w (ValP s.data.toList w) := by
  have HV := Lib.hid (vld_at s.data.toList (atN s.data.toList) rfl)
  have HY : Hid (Vld s.data.toList → ValP s.data.toList w (.returned (.bool true)) w) := fun h => ⟨by rw [vldB_yes _ h], rfl⟩
  have HNo : Hid (¬ Vld s.data.toList → ValP s.data.toList w (.returned (.bool false)) w) := fun h => ⟨by rw [vldB_no _ h], rfl⟩
  have hlen : s.data.toList.length = s.size := by simp
  rw [hlen] at HV
  generalize ValP s.data.toList w = Po at *
  by_cases h0 : s.size = 0
  · have ha : atN s.data.toList = 0 := by
      have : s.data.toList = [] := List.length_eq_zero_iff.1 (hlen.trans h0)
      rw [this]; rfl
    rw [ha] at HV
    have hfin := Lib.hid (HNo.out (fun h => (HV.out.1 h).1 h0.symm))
    clear HV HY HNo ha hlen hs
    go_enter Try.func13, Try.ntmps13
    go_wp2
    exact hfin.out
  · have h0p : 0 < s.size := by omega
    have hgd0 := getD_byte s 0 h0p
    have hhd : s.data.toList.head? = some s[0] := by
      rw [List.head?_eq_getElem?, List.getElem?_eq_getElem (by omega)]; rfl
    clear h0
    have hcase : ∃ a, a = atN s.data.toList ∧ ((a = 1 ∧ s[0] = 45) ∨ (a = 0 ∧ s[0] ≠ 45)) := ⟨_, rfl, by
      unfold atN
      rw [hhd]
      by_cases h : s[0] = 45
      · left; rw [if_pos (by rw [h])]; exact ⟨rfl, h⟩
      · right; rw [if_neg (by intro g; exact h (Option.some.inj g))]; exact ⟨rfl, h⟩⟩
    obtain ⟨a, hae, hcase⟩ := hcase
    rw [← hae] at HV
    clear hae hhd
    have hszI : (s.size : Int) ≤ 1000000 := by omega
    rcases hcase with ⟨rfl, hc⟩ | ⟨rfl, hc⟩
    · have hq : ((s[0].toNat : Int) == 45) = true := by rw [hc]; rfl
      clear hc
      by_cases hs1 : s.size = 1
      · have hfin := Lib.hid (HNo.out (fun h => (HV.out.1 h).1 hs1.symm))
        have q1 : ((1 : Int) == (s.size : Int)) = true := by rw [hs1]; rfl
        clear HV HY HNo hgd0 hlen hs1
        go_enter Try.func13, Try.ntmps13
        go_wp2
        exact hfin.out
      · have q1 : ((1 : Int) == (s.size : Int)) = false := by rw [beq_eq_false_iff_ne]; omega
        have hap : 1 < s.size := by omega
        by_cases h4 : 400 < s.size - 1
        · have hfin := Lib.hid (HNo.out (fun h => by have := (HV.out.1 h).2.1; omega))
          have h4i : (400 : Int) < (s.size : Int) - 1 := by omega
          clear HV HY HNo hgd0 h4 hlen
          go_enter Try.func13, Try.ntmps13
          go_wp2
          all_goals exact hfin.out
        · have h4i : (s.size : Int) - 1 ≤ 400 := by omega
          have hga := getD_byte s 1 hap
          by_cases h48 : s[1] = 48
          · have hq48 : ((s[1].toNat : Int) == 48) = true := by rw [h48]; rfl
            by_cases h1s : 1 < s.size
            · have h1i : (1 : Int) < (s.size : Int) := by omega
              have hfin := Lib.hid (HNo.out (fun h => by
                rcases (HV.out.1 h).2.2.2 with g | g
                · exact g (by rw [hga]; exact h48)
                · omega))
              clear HV HY HNo hgd0 h4 hlen h48 hga
              go_enter Try.func13, Try.ntmps13
              go_wp2
              all_goals exact hfin.out
            · exact absurd hap h1s
          · have hq48 : ((s[1].toNat : Int) == 48) = false := by
              rw [beq_eq_false_iff_ne]; intro e; exact h48 (UInt8.toNat_inj.1 (by have : (48 : UInt8).toNat = 48 := rfl; omega))
            have HV2 : Hid ((∀ i, 1 ≤ i → i < s.size → 48 ≤ (s.data.toList.getD i 0).toNat ∧ (s.data.toList.getD i 0).toNat ≤ 57) ↔ Vld s.data.toList) := Lib.hid ⟨fun h => HV.out.2 ⟨by omega, by omega, h, .inl (by rw [hga]; exact h48)⟩, fun h => (HV.out.1 h).2.2.1⟩
            clear HV h48 hga hgd0 hlen
            go_enter Try.func13, Try.ntmps13
            go_wp2
            go_loop [4] (fun i => ∃ k : Nat, 1 ≤ k ∧ k ≤ s.size ∧ i = .int .i64 k ∧ Hid (∀ i, 1 ≤ i → i < k → 48 ≤ (s.data.toList.getD i 0).toNat ∧ (s.data.toList.getD i 0).toNat ≤ 57)) (fun i => s.size - (intOf i).toNat)
            case atStart => exact ⟨1, Nat.le_refl _, by omega, rfl, fun i h1 h2 => by omega⟩
            case round =>
              obtain ⟨k, hka, hk, rfl, HA⟩ := hrel
              by_cases hlt : k < s.size
              · have hgd := getD_byte s k hlt
                by_cases hd : 48 ≤ (s.data.toList.getD k 0).toNat ∧ (s.data.toList.getD k 0).toNat ≤ 57
                · have HA2 : Hid (∀ i, 1 ≤ i → i < k + 1 → 48 ≤ (s.data.toList.getD i 0).toNat ∧ (s.data.toList.getD i 0).toNat ≤ 57) := fun i h1 h2 => by
                    by_cases e : i = k
                    · rw [e]; exact hd
                    · exact HA.out i h1 (by omega)
                  rw [hgd] at hd
                  have d1 : (48 : Int) ≤ (s[k].toNat : Int) := by omega
                  have d2 : (s[k].toNat : Int) ≤ 57 := by omega
                  clear hgd hd HA hq hq48
                  go_wp2
                  go_round
                  case rel => exact ⟨k + 1, by omega, by omega, by go_num, HA2⟩
                  case measure => simp [intOf]; omega
                · have hfin := Lib.hid (HNo.out (fun h => hd ((HV2.out.2 h) k hka hlt)))
                  rw [hgd] at hd
                  rcases (show s[k].toNat < 48 ∨ 57 < s[k].toNat by omega) with d1 | d1
                  · have d2 : (s[k].toNat : Int) < 48 := by omega
                    clear hgd hd HA d1 hq hq48
                    go_wp2
                    exact hfin.out
                  · have d2 : (57 : Int) < (s[k].toNat : Int) := by omega
                    have d3 : ¬ (s[k].toNat : Int) < 48 := by omega
                    clear hgd hd HA d1 hq hq48
                    go_wp2
                    exact hfin.out
              · have hke : k = s.size := by omega
                rw [hke] at HA
                have hfin := Lib.hid (HY.out (HV2.out.1 HA.out))
                have hkl : (s.size : Int) ≤ k := by omega
                clear HA HV2 hke hq hq48
                go_wp2
                exact hfin.out
    · have hq : ((s[0].toNat : Int) == 45) = false := by
        rw [beq_eq_false_iff_ne]; intro e; exact hc (UInt8.toNat_inj.1 (by have : (45 : UInt8).toNat = 45 := rfl; omega))
      clear hc
      have q1 : ((0 : Int) == (s.size : Int)) = false := by rw [beq_eq_false_iff_ne]; omega
      have hap : 0 < s.size := h0p
      by_cases h4 : 400 < s.size - 0
      · have hfin := Lib.hid (HNo.out (fun h => by have := (HV.out.1 h).2.1; omega))
        have h4i : (400 : Int) < (s.size : Int) := by omega
        clear HV HY HNo hgd0 h4 hlen
        go_enter Try.func13, Try.ntmps13
        go_wp2
        all_goals exact hfin.out
      · have h4i : (s.size : Int) ≤ 400 := by omega
        have hga := getD_byte s 0 hap
        by_cases h48 : s[0] = 48
        · have hq48 : ((s[0].toNat : Int) == 48) = true := by rw [h48]; rfl
          by_cases h1s : 1 < s.size
          · have h1i : (1 : Int) < (s.size : Int) := by omega
            have hfin := Lib.hid (HNo.out (fun h => by
              rcases (HV.out.1 h).2.2.2 with g | g
              · exact g (by rw [hga]; exact h48)
              · omega))
            clear HV HY HNo hgd0 h4 hlen h48 hga
            go_enter Try.func13, Try.ntmps13
            go_wp2
            all_goals exact hfin.out
          · have h1i : (s.size : Int) ≤ 1 := by omega
            have HV2 : Hid ((∀ i, 0 ≤ i → i < s.size → 48 ≤ (s.data.toList.getD i 0).toNat ∧ (s.data.toList.getD i 0).toNat ≤ 57) ↔ Vld s.data.toList) := Lib.hid ⟨fun h => HV.out.2 ⟨by omega, by omega, h, .inr (by omega)⟩, fun h => (HV.out.1 h).2.2.1⟩
            clear HV h48 hga hgd0 hlen
            go_enter Try.func13, Try.ntmps13
            go_wp2
            go_loop [4] (fun i => ∃ k : Nat, 0 ≤ k ∧ k ≤ s.size ∧ i = .int .i64 k ∧ Hid (∀ i, 0 ≤ i → i < k → 48 ≤ (s.data.toList.getD i 0).toNat ∧ (s.data.toList.getD i 0).toNat ≤ 57)) (fun i => s.size - (intOf i).toNat)
            case atStart => exact ⟨0, Nat.le_refl _, by omega, rfl, fun i h1 h2 => by omega⟩
            case round =>
              obtain ⟨k, hka, hk, rfl, HA⟩ := hrel
              by_cases hlt : k < s.size
              · have hgd := getD_byte s k hlt
                by_cases hd : 48 ≤ (s.data.toList.getD k 0).toNat ∧ (s.data.toList.getD k 0).toNat ≤ 57
                · have HA2 : Hid (∀ i, 0 ≤ i → i < k + 1 → 48 ≤ (s.data.toList.getD i 0).toNat ∧ (s.data.toList.getD i 0).toNat ≤ 57) := fun i h1 h2 => by
                    by_cases e : i = k
                    · rw [e]; exact hd
                    · exact HA.out i h1 (by omega)
                  rw [hgd] at hd
                  have d1 : (48 : Int) ≤ (s[k].toNat : Int) := by omega
                  have d2 : (s[k].toNat : Int) ≤ 57 := by omega
                  clear hgd hd HA hq hq48
                  go_wp2
                  go_round
                  case rel => exact ⟨k + 1, by omega, by omega, by go_num, HA2⟩
                  case measure => simp [intOf]; omega
                · have hfin := Lib.hid (HNo.out (fun h => hd ((HV2.out.2 h) k hka hlt)))
                  rw [hgd] at hd
                  rcases (show s[k].toNat < 48 ∨ 57 < s[k].toNat by omega) with d1 | d1
                  · have d2 : (s[k].toNat : Int) < 48 := by omega
                    clear hgd hd HA d1 hq hq48
                    go_wp2
                    exact hfin.out
                  · have d2 : (57 : Int) < (s[k].toNat : Int) := by omega
                    have d3 : ¬ (s[k].toNat : Int) < 48 := by omega
                    clear hgd hd HA d1 hq hq48
                    go_wp2
                    exact hfin.out
              · have hke : k = s.size := by omega
                rw [hke] at HA
                have hfin := Lib.hid (HY.out (HV2.out.1 HA.out))
                have hkl : (s.size : Int) ≤ k := by omega
                clear HA HV2 hke hq hq48
                go_wp2
                exact hfin.out
        · have hq48 : ((s[0].toNat : Int) == 48) = false := by
            rw [beq_eq_false_iff_ne]; intro e; exact h48 (UInt8.toNat_inj.1 (by have : (48 : UInt8).toNat = 48 := rfl; omega))
          have HV2 : Hid ((∀ i, 0 ≤ i → i < s.size → 48 ≤ (s.data.toList.getD i 0).toNat ∧ (s.data.toList.getD i 0).toNat ≤ 57) ↔ Vld s.data.toList) := Lib.hid ⟨fun h => HV.out.2 ⟨by omega, by omega, h, .inl (by rw [hga]; exact h48)⟩, fun h => (HV.out.1 h).2.2.1⟩
          clear HV h48 hga hgd0 hlen
          go_enter Try.func13, Try.ntmps13
          go_wp2
          go_loop [4] (fun i => ∃ k : Nat, 0 ≤ k ∧ k ≤ s.size ∧ i = .int .i64 k ∧ Hid (∀ i, 0 ≤ i → i < k → 48 ≤ (s.data.toList.getD i 0).toNat ∧ (s.data.toList.getD i 0).toNat ≤ 57)) (fun i => s.size - (intOf i).toNat)
          case atStart => exact ⟨0, Nat.le_refl _, by omega, rfl, fun i h1 h2 => by omega⟩
          case round =>
            obtain ⟨k, hka, hk, rfl, HA⟩ := hrel
            by_cases hlt : k < s.size
            · have hgd := getD_byte s k hlt
              by_cases hd : 48 ≤ (s.data.toList.getD k 0).toNat ∧ (s.data.toList.getD k 0).toNat ≤ 57
              · have HA2 : Hid (∀ i, 0 ≤ i → i < k + 1 → 48 ≤ (s.data.toList.getD i 0).toNat ∧ (s.data.toList.getD i 0).toNat ≤ 57) := fun i h1 h2 => by
                  by_cases e : i = k
                  · rw [e]; exact hd
                  · exact HA.out i h1 (by omega)
                rw [hgd] at hd
                have d1 : (48 : Int) ≤ (s[k].toNat : Int) := by omega
                have d2 : (s[k].toNat : Int) ≤ 57 := by omega
                clear hgd hd HA hq hq48
                go_wp2
                go_round
                case rel => exact ⟨k + 1, by omega, by omega, by go_num, HA2⟩
                case measure => simp [intOf]; omega
              · have hfin := Lib.hid (HNo.out (fun h => hd ((HV2.out.2 h) k hka hlt)))
                rw [hgd] at hd
                rcases (show s[k].toNat < 48 ∨ 57 < s[k].toNat by omega) with d1 | d1
                · have d2 : (s[k].toNat : Int) < 48 := by omega
                  clear hgd hd HA d1 hq hq48
                  go_wp2
                  exact hfin.out
                · have d2 : (57 : Int) < (s[k].toNat : Int) := by omega
                  have d3 : ¬ (s[k].toNat : Int) < 48 := by omega
                  clear hgd hd HA d1 hq hq48
                  go_wp2
                  exact hfin.out
            · have hke : k = s.size := by omega
              rw [hke] at HA
              have hfin := Lib.hid (HY.out (HV2.out.1 HA.out))
              have hkl : (s.size : Int) ≤ k := by omega
              clear HA HV2 hke hq hq48
              go_wp2
              exact hfin.out
end Go.Proofs.Ytmnopohjnbpinab
