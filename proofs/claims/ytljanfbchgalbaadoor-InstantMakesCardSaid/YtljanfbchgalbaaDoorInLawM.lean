/-
  Helper: the walk of the statement InstantMakes.
-/
import Derived.Test.YtljanfbchgalbaaDoorInOfR
namespace Go.Proofs.YtljanfbchgalbaaDoor
open Go.RowKit
set_option linter.unusedVariables false

theorem i64b {k : Int} (hk : (Lit.int .i64 k).wf = true) : -9223372036854775808 ≤ k ∧ k ≤ 9223372036854775807 := by
  simp only [Lit.wf, Bool.and_eq_true, decide_eq_true_eq] at hk
  exact hk
theorem ofT_mk (y m d C na : Nat) : mkB (canL 3 [y, m, d, C / 3600, C / 60 % 60, C % 60, 0, 0] na ++ [90]) = ofT y m d C na := by
  unfold ofT; rw [mkB_app]; rfl
set_option maxRecDepth 100000 in
set_option maxHeartbeats 8000000 in
theorem walkInstantMakes (w : World) (hT : Tabs w) (n : Int) (hn : (Lit.int .i64 n).wf = true) (k : Int) (hk : (Lit.int .i64 k).wf = true) : Calls Tryd.prog 6 #[.int .i64 n, .int .i64 k] w (BoolW true w) := by
  have HA := Lib.hid (awake_any w hT)
  unfold BoolW at HA
  have HT : Hid (∀ W, Below w.heap.size w W → Tabs W) := fun W hb => hT.below hb hT.1
  have HF : Hid (∀ w', Below w.heap.size w w' → BoolW true w (.returned (.bool true)) w') := fun w' h => ⟨rfl, h⟩
  generalize BoolW true w = Po at *
  clear hT
  have hn2 := i64b hn
  have hk2 := i64b hk
  have HO := Lib.hid (fun W hW => of_all n k W hW)
  unfold OfP at HO
  clear hn hk
  by_cases k0 : k < 0
  · have K : Hid (∀ t en, OfR n k t en → t = ⟨#[]⟩ ∧ en = 2) := fun t en h => by unfold OfR at h; rw [if_pos (.inl k0)] at h; exact h
    go_enter Tryd.func6, Tryd.ntmps6
    go_wp2_with fail
    refine HA.out.mono ?_
    rintro e w1 ⟨rfl, hb1⟩
    have hB1 : Hid (Below w.heap.size w w1) := hb1
    clear hb1
    go_wp2_with fail
    refine (HO.out _ (HT.out _ hB1.out)).mono ?_
    rintro e w2 ⟨t, en, hR, rfl, hb2⟩
    have hB2 := bt hB1 hb2
    clear hb2
    obtain ⟨rfl, rfl⟩ := K.out _ _ hR
    have hfin := Lib.hid (HF.out _ hB2.out)
    clear K hR HO
    go_wp2
    exact hfin.out
  by_cases k1 : 999999999 < k
  · have K : Hid (∀ t en, OfR n k t en → t = ⟨#[]⟩ ∧ en = 2) := fun t en h => by unfold OfR at h; rw [if_pos (.inr k1)] at h; exact h
    go_enter Tryd.func6, Tryd.ntmps6
    go_wp2_with fail
    refine HA.out.mono ?_
    rintro e w1 ⟨rfl, hb1⟩
    have hB1 : Hid (Below w.heap.size w w1) := hb1
    clear hb1
    go_wp2_with fail
    refine (HO.out _ (HT.out _ hB1.out)).mono ?_
    rintro e w2 ⟨t, en, hR, rfl, hb2⟩
    have hB2 := bt hB1 hb2
    clear hb2
    obtain ⟨rfl, rfl⟩ := K.out _ _ hR
    have hfin := Lib.hid (HF.out _ hB2.out)
    clear K hR HO
    go_wp2
    exact hfin.out
  by_cases n0 : n < -62167219200
  · have K : Hid (∀ t en, OfR n k t en → t = ⟨#[]⟩ ∧ en = 13) := fun t en h => by unfold OfR at h; rw [if_neg (by omega), if_pos (.inl n0)] at h; exact h
    go_enter Tryd.func6, Tryd.ntmps6
    go_wp2_with fail
    refine HA.out.mono ?_
    rintro e w1 ⟨rfl, hb1⟩
    have hB1 : Hid (Below w.heap.size w w1) := hb1
    clear hb1
    go_wp2_with fail
    refine (HO.out _ (HT.out _ hB1.out)).mono ?_
    rintro e w2 ⟨t, en, hR, rfl, hb2⟩
    have hB2 := bt hB1 hb2
    clear hb2
    obtain ⟨rfl, rfl⟩ := K.out _ _ hR
    have hfin := Lib.hid (HF.out _ hB2.out)
    clear K hR HO
    go_wp2
    exact hfin.out
  by_cases n1 : 253402300799 < n
  · have K : Hid (∀ t en, OfR n k t en → t = ⟨#[]⟩ ∧ en = 13) := fun t en h => by unfold OfR at h; rw [if_neg (by omega), if_pos (.inr n1)] at h; exact h
    go_enter Tryd.func6, Tryd.ntmps6
    go_wp2_with fail
    refine HA.out.mono ?_
    rintro e w1 ⟨rfl, hb1⟩
    have hB1 : Hid (Below w.heap.size w w1) := hb1
    clear hb1
    go_wp2_with fail
    refine (HO.out _ (HT.out _ hB1.out)).mono ?_
    rintro e w2 ⟨t, en, hR, rfl, hb2⟩
    have hB2 := bt hB1 hb2
    clear hb2
    obtain ⟨rfl, rfl⟩ := K.out _ _ hR
    have hfin := Lib.hid (HF.out _ hB2.out)
    clear K hR HO
    go_wp2
    exact hfin.out
  obtain ⟨na, rfl⟩ : ∃ na : Nat, k = na := ⟨k.toNat, by omega⟩
  have hna : na ≤ 999999999 := by omega
  obtain ⟨D, hD⟩ : ∃ D : Nat, (n + 62167219200) / 86400 = D := ⟨((n + 62167219200) / 86400).toNat, by omega⟩
  obtain ⟨C, hC⟩ : ∃ C : Nat, (n + 62167219200) % 86400 = C := ⟨((n + 62167219200) % 86400).toNat, by omega⟩
  have hC2 : C < 86400 := by omega
  have hnn : n = 86400 * D + C - 62167219200 := by omega
  have hD2 : D ≤ 3652424 := by omega
  have HZ := Lib.hid (fun t e h => of_zero n na t e h hna (by omega) (by omega))
  have HS : Hid (∀ u, OfR n na u 0 → ∀ W, Tabs W → Calls Tryd.prog 17 #[.string u] W fun e' w' => e' = .returned (.tuple #[.int .i64 n, .int .i64 na, .int .i64 0]) ∧ Below W.heap.size W w') := fun u hu W hW => by
    obtain ⟨x1, x2⟩ := sec_of n na u hu
    have := Seconds_any u W hW (by omega)
    rw [x1] at this
    exact this
  have HR := Lib.hid (fun W => rof_any D C na n hnn hC2 hD2 hna W)
  have HQ : Hid (∀ (t : ByteArray) (y m d : Nat), OfR n na t 0 → IsD y m d → dn y m d = (D : Int) - 719528 → ∀ W, Calls Tryd.prog 21 #[.agg (tl y m d C na).toArray] W fun e' w' => e' = .returned (.string t) ∧ Below W.heap.size W w') := fun t y m d h hI hd W => by
    obtain ⟨i0, i1, i2, i3, i4, i5⟩ := hI
    have hml := (ml_bound (leap y) m).2
    have hs := show_full y m d (C / 3600) (C / 60 % 60) (C % 60) na 0 false (by omega) (by omega) (by omega) (by omega) (by omega) (by omega) hna W
    have ho : OfR n na (ofT y m d C na) 0 := by
      unfold OfR
      rw [if_neg (by omega), if_neg (by omega)]
      exact ⟨y, m, d, C, ⟨i0, i1, i2, i3, i4, i5⟩, hC2, by omega, by rw [show ((na : Int)).toNat = na by omega], rfl⟩
    have ht : t = ofT y m d C na := (h.det ho).1
    rw [ht, ← ofT_mk]
    exact hs
  unfold OfT at HR
  clear hD hC hC2 hnn hD2 hna
  go_enter Tryd.func6, Tryd.ntmps6
  go_wp2_with fail
  refine HA.out.mono ?_
  rintro e w1 ⟨rfl, hb1⟩
  have hB1 : Hid (Below w.heap.size w w1) := hb1
  clear hb1
  go_wp2_with fail
  refine (HO.out _ (HT.out _ hB1.out)).mono ?_
  rintro e w2 ⟨t, en, hR, rfl, hb2⟩
  have hB2 := bt hB1 hb2
  clear hb2
  have hen := HZ.out t en hR
  subst hen
  have C1 := Lib.hid (HS.out t hR)
  have C3 := Lib.hid (fun y m d => HQ.out t y m d hR)
  clear HZ HS HQ hR HO
  go_wp2_with fail
  refine (C1.out _ (HT.out _ hB2.out)).mono ?_
  rintro e w3 ⟨rfl, hb3⟩
  have hB3 := bt hB2 hb3
  clear hb3 C1
  go_wp2_with fail
  refine (HR.out _).mono ?_
  rintro e w4 ⟨y, m, d, hI, hdn, rfl, hb4⟩
  have hB4 := bt hB3 hb4
  have C4 := Lib.hid (C3.out y m d hI hdn)
  clear hb4 HR C3 hI hdn
  go_wp2_with fail
  refine (C4.out _).mono ?_
  rintro e w5 ⟨rfl, hb5⟩
  have hfin := Lib.hid (HF.out _ (bt hB4 hb5).out)
  clear hb5 C4
  go_wp2
  exact hfin.out
end Go.Proofs.YtljanfbchgalbaaDoor
