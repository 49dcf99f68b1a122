/-
  Helper: the walk of the reference's Of; the answers of the program in the reference's terms.
-/
import Derived.Test.YtpankmaljafnnaaGreatDoorDcRf4
import Derived.Test.YtpankmaljafnnaaGreatDoorDcLawN2
namespace Go.Proofs.YtpankmaljafnnaaGreatDoor
open Go.RowKit
set_option linter.unusedVariables false
set_option linter.unusedSimpArgs false

theorem cutD_all (l : List UInt8) : cutD l = l.length ↔ ∀ c ∈ l, isD c = true := by
  induction l with
  | nil => simp [cutD]
  | cons c l ih =>
    unfold cutD at ih ⊢
    rw [List.takeWhile_cons]
    by_cases h : isD c = true
    · rw [if_pos h, List.length_cons, List.length_cons]
      constructor
      · intro g d hd
        rcases List.mem_cons.1 hd with rfl | hd
        · exact h
        · exact ih.1 (by omega) d hd
      · intro g
        have := ih.2 (fun d hd => g d (by simp [hd]))
        omega
    · rw [if_neg h]
      constructor
      · intro g; simp at g
      · intro g; exact absurd (g c (by simp)) h
/-- canonical texts of integers, by the reference's way -/
theorem whole_iff (l : List UInt8) (at_ : Nat) (ha : (1 < l.length ∧ l.head? = some 45 ∧ at_ = 1) ∨ (¬ (1 < l.length ∧ l.head? = some 45) ∧ at_ = 0)) :
    Vld l ↔ at_ + cutD (l.drop at_) = l.length ∧ 1 ≤ cutD (l.drop at_) ∧ cutD (l.drop at_) ≤ 400 ∧ ((l.getD at_ 0).toNat - 48 ≠ 0 ∨ l.length = 1) := by
  have hdrop : (l.drop at_).length = l.length - at_ := List.length_drop
  have hc := cutD_le (l.drop at_)
  have hall := cutD_all (l.drop at_)
  have hg : (l.drop at_).getD 0 0 = l.getD at_ 0 := by
    rw [List.getD_eq_getElem?_getD, List.getElem?_drop, Nat.add_zero, ← List.getD_eq_getElem?_getD]
  by_cases hm : l = [45]
  · subst hm
    have h0 : at_ = 0 := by
      rcases ha with ⟨h, _⟩ | ⟨_, h⟩
      · simp at h
      · exact h
    subst h0
    constructor
    · intro h; exact absurd rfl h.1
    · intro h
      have e : cutD (([45] : List UInt8).drop 0) = 0 := rfl
      rw [e] at h; omega
  · have hs : strip l = l.drop at_ := by
      unfold strip
      rcases ha with ⟨h1, h2, rfl⟩ | ⟨h1, rfl⟩
      · rw [if_pos h2, List.drop_one]
      · rw [List.drop_zero, if_neg]
        intro g
        apply h1
        refine ⟨?_, g⟩
        match l, g, hm with
        | [c], g, hm => simp at g; rw [g] at hm; exact absurd rfl hm
        | c :: d :: r, _, _ => simp
    have hat : at_ ≤ l.length := by
      rcases ha with ⟨h1, _, rfl⟩ | ⟨_, rfl⟩ <;> omega
    rw [vld_get, hs, hg]
    constructor
    · rintro ⟨h1, h2, h3, h4⟩
      have hk : cutD (l.drop at_) = (l.drop at_).length := hall.2 (fun c hcm => by
        obtain ⟨i, hi, rfl⟩ := List.mem_iff_getElem.1 hcm
        have := h3 i hi
        rw [List.getD_eq_getElem?_getD, List.getElem?_eq_getElem hi] at this
        exact (isD_iff _).2 this)
      refine ⟨by omega, by omega, by omega, ?_⟩
      have h5 := h3 0 (by omega)
      rw [hg] at h5
      rcases h4 with h4 | h4
      · left
        intro g
        apply h4
        apply UInt8.toNat_inj.1
        have e : (48 : UInt8).toNat = 48 := rfl
        omega
      · right; rw [h4]; rfl
    · rintro ⟨h1, h2, h3, h4⟩
      have hk : cutD (l.drop at_) = (l.drop at_).length := by omega
      have hd := hall.1 hk
      refine ⟨by omega, by omega, fun i hi => ?_, ?_⟩
      · rw [List.getD_eq_getElem?_getD, List.getElem?_eq_getElem hi]
        exact (isD_iff _).1 (hd _ (List.getElem_mem hi))
      · rcases h4 with h4 | h4
        · left; intro g; rw [g] at h4; exact h4 rfl
        · have h0 : at_ = 0 := by omega
          subst h0
          by_cases g : l.getD 0 0 = 48
          · right
            match l, h4, g with
            | [c], _, g => simp at g; rw [g]
          · exact .inl g
set_option maxRecDepth 100000 in
set_option maxHeartbeats 8000000 in
theorem whole_any (s : ByteArray) (hs : s.size ≤ 100000) (w : World) : Calls Tryz.prog 23 #[.string s] w (fun en w' => en = .returned (.bool (vldB s.data.toList)) ∧ Below w.heap.size w w') := by
  have hlen : s.data.toList.length = s.size := by simp
  have HD := Lib.hid (fun (at_ : Nat) (h : at_ ≤ s.size) V => digs_any s at_ h hs V)
  have HW := Lib.hid (fun at_ h => whole_iff s.data.toList at_ h)
  have HF : Hid (∀ r w', vldB s.data.toList = r → Below w.heap.size w w' → (fun (en : Ending) (w' : World) => en = .returned (.bool (vldB s.data.toList)) ∧ Below w.heap.size w w') (Ending.returned (.bool r)) w') := fun r w' h g => ⟨by rw [h], g⟩
  generalize (fun (en : Ending) (w' : World) => en = .returned (.bool (vldB s.data.toList)) ∧ Below w.heap.size w w') = Po at *
  have HY : Hid (Vld s.data.toList → vldB s.data.toList = true) := fun h => vldB_yes _ h
  have HN : Hid (¬ Vld s.data.toList → vldB s.data.toList = false) := fun h => vldB_no _ h
  have hhead : ∀ (h : 0 < s.size), s.data.toList.head? = some s[0] := fun h => by
    rw [List.head?_eq_getElem?, List.getElem?_eq_getElem (by omega)]; rfl
  by_cases hl : 1 < s.size
  · have hli : (1 : Int) < (s.size : Int) := by omega
    have hh := hhead (by omega)
    by_cases h45 : s[0] = 45
    · have hq : ((s[0].toNat : Int) == 45) = true := by rw [h45]; rfl
      have hW := HW.out 1 (.inl ⟨by omega, by rw [hh, h45], rfl⟩)
      have hpos : 0 < s.size := Nat.lt_trans (Nat.lt_succ_self 0) hl
      have hq' : (((s[0]'hpos).toNat : Int) == 45) = true := hq
      clear hh h45 hq
      have hlenh := Lib.hid hlen
      have HDa := HD.out 1 (by omega)
      obtain ⟨K, hK⟩ : ∃ K, cutD (s.data.toList.drop 1) = K := ⟨_, rfl⟩
      have hKl : 1 + K ≤ s.size := by
        have := cutD_le (s.data.toList.drop 1)
        rw [List.length_drop, hlen, hK] at this; omega
      obtain ⟨X, hX⟩ : ∃ X, ((s.data.toList.drop 1).take K).map (fun x : UInt8 => x.toNat - 48) = X := ⟨_, rfl⟩
      have hX0 : Hid (0 < K → X.getD 0 0 = (s.data.toList.getD 1 0).toNat - 48) := fun h => by
        rw [← hX, List.getD_eq_getElem?_getD, List.getElem?_map, List.getElem?_take_of_lt h, List.getElem?_drop, Nat.add_zero, List.getD_eq_getElem?_getD, List.getElem?_eq_getElem (by omega)]; rfl
      have hXl : Hid (X.length = K) := by
        show _ = _
        rw [← hX, List.length_map, List.length_take, List.length_drop]; omega
      rw [hK] at HDa hW
      rw [hX] at HDa
      rw [hlen] at hW
      have HDh := Lib.hid (fun V => HDa V)
      have hWh := Lib.hid hW
      have hKs : K ≤ 100000 := by omega
      have hsI : (s.size : Int) ≤ 100000 := by omega
      clear hK hX hW HDa HD HW hlen hhead
      go_enter Tryz.func23, Tryz.ntmps23
      go_wp2_with fail
      refine (HDh.out _).mono ?_
      rintro en w1 ⟨a, cp, rfl, hcp, hib, q⟩
      have B1 := Lib.hid q
      have IB := Lib.hid hib
      clear q hib HDh
      by_cases h1 : 1 + K = s.size
      · have k1 : (((1 + K : Nat) : Int) == (s.size : Int)) = true := by rw [beq_iff_eq]; omega
        have k1b : ((1 + (K : Int) : Int) == (s.size : Int)) = true := by rw [beq_iff_eq]; omega
        by_cases h2 : 1 ≤ K
        · have k2 : (1 : Int) ≤ (K : Int) := by omega
          have k6 : (0 : Int) < (K : Int) := by omega
          have k7 : ¬ (K = 0) := by omega
          by_cases h3 : K ≤ 400
          · have k3 : (K : Int) ≤ 400 := by omega
            obtain ⟨g, o, rfl, _, x1⟩ := IB.out.at 0 (by rw [hXl.out]; omega)
            rw [hX0.out (by omega)] at x1
            rw [Nat.add_zero] at x1
            obtain ⟨c0, hc0⟩ : ∃ c0, (s.data.toList.getD 1 0).toNat - 48 = c0 := ⟨_, rfl⟩
            rw [hc0] at hWh x1
            by_cases h4 : c0 ≠ 0
            · have k4 : ((c0 : Int) != 0) = true := by rw [bne_iff_ne]; omega
              have hfin := Lib.hid (HF.out true w1 (HY.out (hWh.out.2 ⟨h1, h2, h3, .inl h4⟩)) B1.out)
              clear HF HY HN hWh B1 IB hX0 hXl hc0 h4
              go_wp2
              all_goals exact hfin.out
            · have h40 : c0 = 0 := by omega
              have k4 : ((c0 : Int) != 0) = false := by rw [h40]; rfl
              by_cases h5 : s.size = 1
              · have k5 : ((s.size : Int) == 1) = true := by rw [h5]; rfl
                have hfin := Lib.hid (HF.out true w1 (HY.out (hWh.out.2 ⟨h1, h2, h3, .inr h5⟩)) B1.out)
                clear HF HY HN hWh B1 IB hX0 hXl hc0 h4 h40
                go_wp2
                all_goals exact hfin.out
              · have k5 : ((s.size : Int) == 1) = false := by rw [beq_eq_false_iff_ne]; omega
                have hfin := Lib.hid (HF.out false w1 (HN.out (fun h => by rcases (hWh.out.1 h).2.2.2 with g | g <;> omega)) B1.out)
                clear HF HY HN hWh B1 IB hX0 hXl hc0 h4 h40 h5
                go_wp2
                all_goals exact hfin.out
          · have k3 : ¬ (K : Int) ≤ 400 := by omega
            have hfin := Lib.hid (HF.out false w1 (HN.out (fun h => h3 (hWh.out.1 h).2.2.1)) B1.out)
            clear HF HY HN hWh B1 IB hX0 hXl h3
            go_wp2
            all_goals exact hfin.out
        · have k2 : ¬ (1 : Int) ≤ (K : Int) := by omega
          have hfin := Lib.hid (HF.out false w1 (HN.out (fun h => h2 (hWh.out.1 h).2.1)) B1.out)
          clear HF HY HN hWh B1 IB hX0 hXl h2
          go_wp2
          all_goals exact hfin.out
      · have k1 : (((1 + K : Nat) : Int) == (s.size : Int)) = false := by rw [beq_eq_false_iff_ne]; omega
        have k1b : ((1 + (K : Int) : Int) == (s.size : Int)) = false := by rw [beq_eq_false_iff_ne]; omega
        have hfin := Lib.hid (HF.out false w1 (HN.out (fun h => h1 (hWh.out.1 h).1)) B1.out)
        clear HF HY HN hWh B1 IB hX0 hXl h1
        go_wp2
        all_goals exact hfin.out
    · have hq : ((s[0].toNat : Int) == 45) = false := by
        rw [beq_eq_false_iff_ne]; intro e; exact h45 (UInt8.toNat_inj.1 (by have : (45 : UInt8).toNat = 45 := rfl; omega))
      have hW := HW.out 0 (.inr ⟨fun g => h45 (by rw [hh] at g; exact Option.some.inj g.2), rfl⟩)
      have hpos : 0 < s.size := Nat.lt_trans (Nat.lt_succ_self 0) hl
      have hq' : (((s[0]'hpos).toNat : Int) == 45) = false := hq
      clear hh h45 hq
      have hlenh := Lib.hid hlen
      have HDa := HD.out 0 (by omega)
      obtain ⟨K, hK⟩ : ∃ K, cutD (s.data.toList.drop 0) = K := ⟨_, rfl⟩
      have hKl : K ≤ s.size := by
        have := cutD_le (s.data.toList.drop 0)
        rw [List.length_drop, hlen, hK] at this; omega
      obtain ⟨X, hX⟩ : ∃ X, ((s.data.toList.drop 0).take K).map (fun x : UInt8 => x.toNat - 48) = X := ⟨_, rfl⟩
      have hX0 : Hid (0 < K → X.getD 0 0 = (s.data.toList.getD 0 0).toNat - 48) := fun h => by
        rw [← hX, List.getD_eq_getElem?_getD, List.getElem?_map, List.getElem?_take_of_lt h, List.getElem?_drop, Nat.add_zero, List.getD_eq_getElem?_getD, List.getElem?_eq_getElem (by omega)]; rfl
      have hXl : Hid (X.length = K) := by
        show _ = _
        rw [← hX, List.length_map, List.length_take, List.length_drop]; omega
      rw [hK] at HDa hW
      rw [hX] at HDa
      rw [hlen] at hW
      rw [Nat.zero_add] at HDa hW
      have HDh := Lib.hid (fun V => HDa V)
      have hWh := Lib.hid hW
      have hKs : K ≤ 100000 := by omega
      have hsI : (s.size : Int) ≤ 100000 := by omega
      clear hK hX hW HDa HD HW hlen hhead
      go_enter Tryz.func23, Tryz.ntmps23
      go_wp2_with fail
      refine (HDh.out _).mono ?_
      rintro en w1 ⟨a, cp, rfl, hcp, hib, q⟩
      have B1 := Lib.hid q
      have IB := Lib.hid hib
      clear q hib HDh
      by_cases h1 : K = s.size
      · have k1 : (((K : Nat) : Int) == (s.size : Int)) = true := by rw [beq_iff_eq]; omega
        have k1b : (((K : Int) : Int) == (s.size : Int)) = true := by rw [beq_iff_eq]; omega
        by_cases h2 : 1 ≤ K
        · have k2 : (1 : Int) ≤ (K : Int) := by omega
          have k6 : (0 : Int) < (K : Int) := by omega
          have k7 : ¬ (K = 0) := by omega
          by_cases h3 : K ≤ 400
          · have k3 : (K : Int) ≤ 400 := by omega
            obtain ⟨g, o, rfl, _, x1⟩ := IB.out.at 0 (by rw [hXl.out]; omega)
            rw [hX0.out (by omega)] at x1
            rw [Nat.add_zero] at x1
            obtain ⟨c0, hc0⟩ : ∃ c0, (s.data.toList.getD 0 0).toNat - 48 = c0 := ⟨_, rfl⟩
            rw [hc0] at hWh x1
            by_cases h4 : c0 ≠ 0
            · have k4 : ((c0 : Int) != 0) = true := by rw [bne_iff_ne]; omega
              have hfin := Lib.hid (HF.out true w1 (HY.out (hWh.out.2 ⟨h1, h2, h3, .inl h4⟩)) B1.out)
              clear HF HY HN hWh B1 IB hX0 hXl hc0 h4
              go_wp2
              all_goals exact hfin.out
            · have h40 : c0 = 0 := by omega
              have k4 : ((c0 : Int) != 0) = false := by rw [h40]; rfl
              by_cases h5 : s.size = 1
              · have k5 : ((s.size : Int) == 1) = true := by rw [h5]; rfl
                have hfin := Lib.hid (HF.out true w1 (HY.out (hWh.out.2 ⟨h1, h2, h3, .inr h5⟩)) B1.out)
                clear HF HY HN hWh B1 IB hX0 hXl hc0 h4 h40
                go_wp2
                all_goals exact hfin.out
              · have k5 : ((s.size : Int) == 1) = false := by rw [beq_eq_false_iff_ne]; omega
                have hfin := Lib.hid (HF.out false w1 (HN.out (fun h => by rcases (hWh.out.1 h).2.2.2 with g | g <;> omega)) B1.out)
                clear HF HY HN hWh B1 IB hX0 hXl hc0 h4 h40 h5
                go_wp2
                all_goals exact hfin.out
          · have k3 : ¬ (K : Int) ≤ 400 := by omega
            have hfin := Lib.hid (HF.out false w1 (HN.out (fun h => h3 (hWh.out.1 h).2.2.1)) B1.out)
            clear HF HY HN hWh B1 IB hX0 hXl h3
            go_wp2
            all_goals exact hfin.out
        · have k2 : ¬ (1 : Int) ≤ (K : Int) := by omega
          have hfin := Lib.hid (HF.out false w1 (HN.out (fun h => h2 (hWh.out.1 h).2.1)) B1.out)
          clear HF HY HN hWh B1 IB hX0 hXl h2
          go_wp2
          all_goals exact hfin.out
      · have k1 : (((K : Nat) : Int) == (s.size : Int)) = false := by rw [beq_eq_false_iff_ne]; omega
        have k1b : (((K : Int) : Int) == (s.size : Int)) = false := by rw [beq_eq_false_iff_ne]; omega
        have hfin := Lib.hid (HF.out false w1 (HN.out (fun h => h1 (hWh.out.1 h).1)) B1.out)
        clear HF HY HN hWh B1 IB hX0 hXl h1
        go_wp2
        all_goals exact hfin.out
  · have hli : ¬ (1 : Int) < (s.size : Int) := by omega
    have hW := HW.out 0 (.inr ⟨fun g => hl (by rw [hlen] at g; exact g.1), rfl⟩)
    have hlenh := Lib.hid hlen
    have HDa := HD.out 0 (by omega)
    obtain ⟨K, hK⟩ : ∃ K, cutD (s.data.toList.drop 0) = K := ⟨_, rfl⟩
    have hKl : K ≤ s.size := by
      have := cutD_le (s.data.toList.drop 0)
      rw [List.length_drop, hlen, hK] at this; omega
    obtain ⟨X, hX⟩ : ∃ X, ((s.data.toList.drop 0).take K).map (fun x : UInt8 => x.toNat - 48) = X := ⟨_, rfl⟩
    have hX0 : Hid (0 < K → X.getD 0 0 = (s.data.toList.getD 0 0).toNat - 48) := fun h => by
      rw [← hX, List.getD_eq_getElem?_getD, List.getElem?_map, List.getElem?_take_of_lt h, List.getElem?_drop, Nat.add_zero, List.getD_eq_getElem?_getD, List.getElem?_eq_getElem (by omega)]; rfl
    have hXl : Hid (X.length = K) := by
      show _ = _
      rw [← hX, List.length_map, List.length_take, List.length_drop]; omega
    rw [hK] at HDa hW
    rw [hX] at HDa
    rw [hlen] at hW
    rw [Nat.zero_add] at HDa hW
    have HDh := Lib.hid (fun V => HDa V)
    have hWh := Lib.hid hW
    have hKs : K ≤ 100000 := by omega
    have hsI : (s.size : Int) ≤ 100000 := by omega
    clear hK hX hW HDa HD HW hlen hhead
    go_enter Tryz.func23, Tryz.ntmps23
    go_wp2_with fail
    refine (HDh.out _).mono ?_
    rintro en w1 ⟨a, cp, rfl, hcp, hib, q⟩
    have B1 := Lib.hid q
    have IB := Lib.hid hib
    clear q hib HDh
    by_cases h1 : K = s.size
    · have k1 : (((K : Nat) : Int) == (s.size : Int)) = true := by rw [beq_iff_eq]; omega
      have k1b : (((K : Int) : Int) == (s.size : Int)) = true := by rw [beq_iff_eq]; omega
      by_cases h2 : 1 ≤ K
      · have k2 : (1 : Int) ≤ (K : Int) := by omega
        have k6 : (0 : Int) < (K : Int) := by omega
        have k7 : ¬ (K = 0) := by omega
        by_cases h3 : K ≤ 400
        · have k3 : (K : Int) ≤ 400 := by omega
          obtain ⟨g, o, rfl, _, x1⟩ := IB.out.at 0 (by rw [hXl.out]; omega)
          rw [hX0.out (by omega)] at x1
          rw [Nat.add_zero] at x1
          obtain ⟨c0, hc0⟩ : ∃ c0, (s.data.toList.getD 0 0).toNat - 48 = c0 := ⟨_, rfl⟩
          rw [hc0] at hWh x1
          by_cases h4 : c0 ≠ 0
          · have k4 : ((c0 : Int) != 0) = true := by rw [bne_iff_ne]; omega
            have hfin := Lib.hid (HF.out true w1 (HY.out (hWh.out.2 ⟨h1, h2, h3, .inl h4⟩)) B1.out)
            clear HF HY HN hWh B1 IB hX0 hXl hc0 h4
            go_wp2
            all_goals exact hfin.out
          · have h40 : c0 = 0 := by omega
            have k4 : ((c0 : Int) != 0) = false := by rw [h40]; rfl
            by_cases h5 : s.size = 1
            · have k5 : ((s.size : Int) == 1) = true := by rw [h5]; rfl
              have hfin := Lib.hid (HF.out true w1 (HY.out (hWh.out.2 ⟨h1, h2, h3, .inr h5⟩)) B1.out)
              clear HF HY HN hWh B1 IB hX0 hXl hc0 h4 h40
              go_wp2
              all_goals exact hfin.out
            · have k5 : ((s.size : Int) == 1) = false := by rw [beq_eq_false_iff_ne]; omega
              have hfin := Lib.hid (HF.out false w1 (HN.out (fun h => by rcases (hWh.out.1 h).2.2.2 with g | g <;> omega)) B1.out)
              clear HF HY HN hWh B1 IB hX0 hXl hc0 h4 h40 h5
              go_wp2
              all_goals exact hfin.out
        · have k3 : ¬ (K : Int) ≤ 400 := by omega
          have hfin := Lib.hid (HF.out false w1 (HN.out (fun h => h3 (hWh.out.1 h).2.2.1)) B1.out)
          clear HF HY HN hWh B1 IB hX0 hXl h3
          go_wp2
          all_goals exact hfin.out
      · have k2 : ¬ (1 : Int) ≤ (K : Int) := by omega
        have hfin := Lib.hid (HF.out false w1 (HN.out (fun h => h2 (hWh.out.1 h).2.1)) B1.out)
        clear HF HY HN hWh B1 IB hX0 hXl h2
        go_wp2
        all_goals exact hfin.out
    · have k1 : (((K : Nat) : Int) == (s.size : Int)) = false := by rw [beq_eq_false_iff_ne]; omega
      have k1b : (((K : Int) : Int) == (s.size : Int)) = false := by rw [beq_eq_false_iff_ne]; omega
      have hfin := Lib.hid (HF.out false w1 (HN.out (fun h => h1 (hWh.out.1 h).1)) B1.out)
      clear HF HY HN hWh B1 IB hX0 hXl h1
      go_wp2
      all_goals exact hfin.out

theorem fin_rof (tmps : Array Value) (W : World) (N : Nat) (b : Bool) (a : Option Addr) (n c : Nat) (e : Int) (hp : tmps.getD 4 undef = .pointer (some ⟨N, 0, none⟩)) (h : Blk W N 28 (nvl b a n c e)) :
    (results Tryz.f24 tmps).run Tryz.prog W = .ok (.agg (nvl b a n c e).toArray) W :=
  results_row (p := 4) (ty := 28) rfl tmps W N _ hp (load_D h)
theorem Ib.rowFar {w : World} {a : Option Addr} {l : List Nat} (h : Ib w a l) (g : Nat) (cs : Array Value) (hn : ∀ ad, a = some ad → ad.block ≠ g) : Ib (w.setRow g cs) a l := by
  rcases h with h | ⟨b, off, rfl, hlt, hc⟩
  · exact .inl h
  · refine .inr ⟨b, off, rfl, by rw [size_setRow]; exact hlt, fun i hi => ?_⟩
    rw [← hc i hi]
    refine World.cell?_of_block (a := ⟨b, off + i, none⟩) ?_
    have := hn _ rfl
    exact setRow_other w g b cs (by simpa using this)
/-- the exponent between bounds -/
def clE (e : Int) : Int := max (min e 100000) (-100000)
theorem out_clamp (z e : Int) (hz : Sh z) : outD z (clE e) = outD z e := by
  unfold outD clE
  by_cases h : z = 0
  · rw [if_pos h, if_pos h]
  · rw [if_neg h, if_neg h]
    have h1 := mant_spec z.natAbs (by omega)
    have hl : (body 10 (mant z.natAbs)).length ≤ 400 := Nat.le_trans (body_le_len (mant_le z.natAbs (by omega))) ((sh_body z).1 hz)
    have h2 := (trimR_body (mant z.natAbs) (tz z.natAbs) h1.2).2
    rw [← h1.1] at h2
    have h3 := (sh_body z).1 hz
    simp only [if_neg (show ¬ 400 < (body 10 (mant z.natAbs)).length by omega)]
    by_cases c1 : e < -100000
    · rw [if_pos (show max (min e 100000) (-100000) + (tz z.natAbs : Int) < -2000 ∨ 2000 < max (min e 100000) (-100000) + (tz z.natAbs : Int) by omega), if_pos (show e + (tz z.natAbs : Int) < -2000 ∨ 2000 < e + (tz z.natAbs : Int) by omega)]
    · by_cases c2 : 100000 < e
      · rw [if_pos (show max (min e 100000) (-100000) + (tz z.natAbs : Int) < -2000 ∨ 2000 < max (min e 100000) (-100000) + (tz z.natAbs : Int) by omega), if_pos (show e + (tz z.natAbs : Int) < -2000 ∨ 2000 < e + (tz z.natAbs : Int) by omega)]
      · rw [show max (min e 100000) (-100000) = e by omega]
/-- the program's answer by the reference's numbers -/
theorem out_ref (z e : Int) : outD z e = if limF (dgs (nZ z).natAbs).length (nEx z e) = 0 then (mkB (tD (nZ z) (nEx z e)), 0) else (⟨#[]⟩, limF (dgs (nZ z).natAbs).length (nEx z e)) := by
  unfold outD limF
  by_cases h : z = 0
  · subst h; rfl
  · have hm := mant_spec z.natAbs (by omega)
    have hmp : 0 < mant z.natAbs := by omega
    have e1 : nZ z = zi (neg z) (mant z.natAbs) := if_neg h
    have e2 : nEx z e = e + (tz z.natAbs : Int) := if_neg h
    rw [if_neg h, e1, e2, zi_abs, dgs_len _ (by omega)]
    by_cases c1 : 400 < (body 10 (mant z.natAbs)).length
    · simp only [if_pos c1]; rfl
    · simp only [if_neg c1]
      by_cases c2 : e + (tz z.natAbs : Int) < -2000 ∨ 2000 < e + (tz z.natAbs : Int)
      · have c3 : 2000 < e + (tz z.natAbs : Int) ∨ e + (tz z.natAbs : Int) < -2000 := by omega
        simp only [if_pos c2, if_pos c3]; rfl
      · have c3 : ¬ (2000 < e + (tz z.natAbs : Int) ∨ e + (tz z.natAbs : Int) < -2000) := by omega
        simp only [if_neg c2, if_neg c3]; rfl
theorem coef_T (z : Int) : coefB (neg z) (dgs z.natAbs) = mkB (T z) := by
  unfold coefB
  by_cases h : z = 0
  · subst h; rfl
  · have hne : dgs z.natAbs ≠ [] := fun g => by
      have := dgs_len z.natAbs (by omega)
      rw [g] at this
      have h2 := List.length_pos_iff.2 (body_ne 10 z.natAbs (by omega))
      simp at this; omega
    rw [if_neg hne]
    have e1 : wordL (dgs z.natAbs) = body 10 z.natAbs := dgs_chars z.natAbs (by omega)
    rw [e1]
    unfold T Tb sgS neg
    by_cases g : z < 0
    · rw [if_pos g, decide_eq_true g, if_pos rfl, mkB_app]; rfl
    · rw [if_neg g, decide_eq_false g]
      apply ba_ext; rfl
/-- Show at a number in its normal form -/
theorem show_tD (z e : Int) : coefB (neg z) (dgs z.natAbs) ++ ⟨#[101]⟩ ++ mkB (T e) = mkB (tD z e) := by
  rw [coef_T]
  have : tD z e = T z ++ ([101] ++ T e) := rfl
  rw [this, mkB_app, mkB_app, ByteArray.append_assoc]; rfl
set_option maxRecDepth 100000 in
set_option maxHeartbeats 4000000 in
theorem rof_any (s : ByteArray) (z e : Int) (hz : Sh z) (hs : s.data.toList = T z) (w : World) : Calls Tryz.prog 24 #[.string s, .int .i64 e] w (RD (nZ z) (nEx z (clE e)) w) := by
  have hbl := (sh_body z).1 hz
  have hlen : s.data.toList.length = s.size := by simp
  have hTl := T_len z
  have hsz : s.size ≤ 1000 := by rw [← hlen, hs]; omega
  have hb0 := List.length_pos_iff.2 (body_ne 10 z.natAbs (by omega))
  have hA := body_AD z.natAbs
  have hcut : cutD (body 10 z.natAbs) = (body 10 z.natAbs).length := (cutD_all _).2 (fun c hc => (isD_iff c).2 (hA c hc))
  have hcv : cv ((body 10 z.natAbs).map fun x : UInt8 => x.toNat - 48) = z.natAbs := by
    have h1 : ∀ d ∈ (body 10 z.natAbs).map (fun x : UInt8 => x.toNat - 48), d ≤ 9 := fun d hd => by
      obtain ⟨c, hc, rfl⟩ := List.mem_map.1 hd
      have := hA c hc; omega
    rw [← numv_word _ h1]
    have h2 : wordL ((body 10 z.natAbs).map (fun x : UInt8 => x.toNat - 48)) = body 10 z.natAbs := by
      unfold wordL
      rw [List.map_map]
      conv => rhs; rw [← List.map_id (body 10 z.natAbs)]
      apply List.map_congr_left
      intro c hc
      exact chr_dig c (hA c hc)
    rw [h2, numv_body]
  have hd9 : ∀ d ∈ (body 10 z.natAbs).map (fun x : UInt8 => x.toNat - 48), d ≤ 9 := fun d hd => by
    obtain ⟨c, hc, rfl⟩ := List.mem_map.1 hd
    have := hA c hc; omega
  have hce : -100000 ≤ clE e ∧ clE e ≤ 100000 := by unfold clE; omega
  have HNm := Lib.hid (fun (b : Bool) (a : Option Addr) (cap : Nat) (V : World) (hr : Ib V a ((body 10 z.natAbs).map fun x : UInt8 => x.toNat - 48)) => norm_any b ((body 10 z.natAbs).map fun x : UInt8 => x.toNat - 48) hd9 (by rw [List.length_map]; omega) a cap (clE e) (by omega) (by omega) V hr)
  simp only [hcv, List.length_map] at HNm
  -- the sign and where the digits begin
  have hpos : 0 < s.size := by
    rw [← hlen, hs]; unfold T Tb; rw [List.length_append]; omega
  have hs0 : s.data.toList.getD 0 0 = s[0]'hpos := getD_byte s 0 hpos
  have hN9 : (s[0]'hpos = 45) ↔ z < 0 := by
    rw [← hs0, hs]
    unfold T Tb
    by_cases h : z < 0
    · rw [if_pos h]; exact ⟨fun _ => h, fun _ => rfl⟩
    · rw [if_neg h, List.nil_append]
      refine ⟨fun g => ?_, fun g => absurd g h⟩
      have hm : (body 10 z.natAbs).getD 0 0 ∈ body 10 z.natAbs := by
        rw [List.getD_eq_getElem?_getD, List.getElem?_eq_getElem hb0]; exact List.getElem_mem hb0
      have := hA _ hm
      rw [g] at this
      exact absurd this (by decide)
  have HF : Hid (∀ en w', RD (nZ z) (nEx z (clE e)) w en w' → RD (nZ z) (nEx z (clE e)) w en w') := fun _ _ h => h
  obtain ⟨N, W0, hN, hW0, hX0, hb0w⟩ := dbox w false none 0 0 0
  have hBk : Hid (Blk W0 N 28 (nvl false none 0 0 0)) := by rw [← hW0, ← hN]; exact Blk.new w _ _
  have hlt : N < W0.heap.size := hBk.out.lt
  have hzD : ∀ W, (zeroValue 28).run Tryz.prog W = .ok (.agg (nvl false none 0 0 0).toArray) W := fun W => by kernel_rfl
  by_cases h : z < 0
  · have hq : (((s[0]'hpos).toNat : Int) == 45) = true := by rw [hN9.2 h]; rfl
    have hdr : s.data.toList.drop 1 = body 10 z.natAbs := by rw [hs]; unfold T Tb; rw [if_pos h]; rfl
    have HD := Lib.hid (fun V => digs_any s 1 (by omega) (by omega) V)
    rw [hdr, hcut, List.take_length] at HD
    have HN2 : Hid (∀ a cap V, Ib V a ((body 10 z.natAbs).map fun x : UInt8 => x.toNat - 48) → Calls Tryz.prog 41 #[.bool true, .slice a (body 10 z.natAbs).length cap, .int .i64 (clE e)] V (RD (nZ z) (nEx z (clE e)) V)) := fun a cap V hr => by
      have := HNm.out true a cap V hr
      rw [show zi true z.natAbs = z by unfold zi; rw [if_pos rfl]; omega] at this
      exact this
    clear hs hdr hcut hcv hd9 hA hN9 hs0 hTl hlen HNm hX0 hce
    have hmx : max (min e 100000) (-100000) = clE e := rfl
    go_enter Tryz.func24, Tryz.ntmps24
    go_wp2_with fail
    refine (HD.out _).mono ?_
    rintro en w1 ⟨a, cp, rfl, hcp, hib, q⟩
    have B1 := Lib.hid (hBk.out.go q hlt)
    have b1 := bt hb0w q
    have HN3 := Lib.hid (HN2.out a cp w1 hib)
    clear q hib HD HN2 hBk hb0w
    unfold RD at HN3
    go_wp2_with fail
    refine HN3.out.mono ?_
    rintro en w2 ⟨a2, c2, rfl, h2, hi2, q, hfr⟩
    have B2 := B1.out.go q B1.out.lt
    have hbX := b1.out.trans (q.mono b1.out.size)
    have hNw := B1.out.lt
    have hP : RD (nZ z) (nEx z (clE e)) w (.returned (.agg (nvl (neg (nZ z)) a2 (dgs (nZ z).natAbs).length c2 (nEx z (clE e))).toArray)) (w2.setRow N (nvl (neg (nZ z)) a2 (dgs (nZ z).natAbs).length c2 (nEx z (clE e))).toArray) :=
      ⟨a2, c2, rfl, h2, hi2.rowFar N _ (fun ad had => by have := hfr ad had; omega), below_row hbX (Nat.le_of_eq hN) _, fun ad had => by have := hfr ad had; have := b1.out.size; omega⟩
    have hfin := Lib.hid hP
    have B3 := Lib.hid (B2.row (nvl (neg (nZ z)) a2 (dgs (nZ z).natAbs).length c2 (nEx z (clE e))))
    have B2h := Lib.hid B2
    clear hP q h2 hi2 hfr B1 b1 HN3 B2 hbX HF hNw
    generalize RD (nZ z) (nEx z (clE e)) w = Po at *
    generalize neg (nZ z) = b9 at *
    generalize (dgs (nZ z).natAbs).length = n9 at *
    generalize nEx z (clE e) = x9 at *
    go_wp2_with (refine wpList_store_row rfl 28 (.tmp 4) (.tmp 24) rfl N _ rfl rfl 28 _ B2h.out (by rw [size_D]; rfl) (nvl_z _ b9 _ a2 _ n9 _ c2 _ x9) (nvl_one b9 a2 n9 c2 x9) ?_)
    exact bodyPost_ret (v := .agg (nvl b9 a2 n9 c2 x9).toArray) (fin_rof _ _ N b9 a2 n9 c2 x9 rfl B3.out) rfl hfin.out
  · have hq : (((s[0]'hpos).toNat : Int) == 45) = false := by
      rw [beq_eq_false_iff_ne]; intro g; exact h (hN9.1 (UInt8.toNat_inj.1 (by have : (45 : UInt8).toNat = 45 := rfl; omega)))
    have hdr : s.data.toList.drop 0 = body 10 z.natAbs := by rw [hs]; unfold T Tb; rw [if_neg h]; rfl
    have HD := Lib.hid (fun V => digs_any s 0 (by omega) (by omega) V)
    rw [hdr, hcut, List.take_length] at HD
    have HN2 : Hid (∀ a cap V, Ib V a ((body 10 z.natAbs).map fun x : UInt8 => x.toNat - 48) → Calls Tryz.prog 41 #[.bool false, .slice a (body 10 z.natAbs).length cap, .int .i64 (clE e)] V (RD (nZ z) (nEx z (clE e)) V)) := fun a cap V hr => by
      have := HNm.out false a cap V hr
      rw [show zi false z.natAbs = z by unfold zi; rw [if_neg (by decide)]; omega] at this
      exact this
    clear hs hdr hcut hcv hd9 hA hN9 hs0 hTl hlen HNm hX0 hce
    have hmx : max (min e 100000) (-100000) = clE e := rfl
    go_enter Tryz.func24, Tryz.ntmps24
    go_wp2_with fail
    refine (HD.out _).mono ?_
    rintro en w1 ⟨a, cp, rfl, hcp, hib, q⟩
    have B1 := Lib.hid (hBk.out.go q hlt)
    have b1 := bt hb0w q
    have HN3 := Lib.hid (HN2.out a cp w1 hib)
    clear q hib HD HN2 hBk hb0w
    unfold RD at HN3
    go_wp2_with fail
    refine HN3.out.mono ?_
    rintro en w2 ⟨a2, c2, rfl, h2, hi2, q, hfr⟩
    have B2 := B1.out.go q B1.out.lt
    have hbX := b1.out.trans (q.mono b1.out.size)
    have hNw := B1.out.lt
    have hP : RD (nZ z) (nEx z (clE e)) w (.returned (.agg (nvl (neg (nZ z)) a2 (dgs (nZ z).natAbs).length c2 (nEx z (clE e))).toArray)) (w2.setRow N (nvl (neg (nZ z)) a2 (dgs (nZ z).natAbs).length c2 (nEx z (clE e))).toArray) :=
      ⟨a2, c2, rfl, h2, hi2.rowFar N _ (fun ad had => by have := hfr ad had; omega), below_row hbX (Nat.le_of_eq hN) _, fun ad had => by have := hfr ad had; have := b1.out.size; omega⟩
    have hfin := Lib.hid hP
    have B3 := Lib.hid (B2.row (nvl (neg (nZ z)) a2 (dgs (nZ z).natAbs).length c2 (nEx z (clE e))))
    have B2h := Lib.hid B2
    clear hP q h2 hi2 hfr B1 b1 HN3 B2 hbX HF hNw
    generalize RD (nZ z) (nEx z (clE e)) w = Po at *
    generalize neg (nZ z) = b9 at *
    generalize (dgs (nZ z).natAbs).length = n9 at *
    generalize nEx z (clE e) = x9 at *
    go_wp2_with (refine wpList_store_row rfl 28 (.tmp 4) (.tmp 24) rfl N _ rfl rfl 28 _ B2h.out (by rw [size_D]; rfl) (nvl_z _ b9 _ a2 _ n9 _ c2 _ x9) (nvl_one b9 a2 n9 c2 x9) ?_)
    exact bodyPost_ret (v := .agg (nvl b9 a2 n9 c2 x9).toArray) (fin_rof _ _ N b9 a2 n9 c2 x9 rfl B3.out) rfl hfin.out
end Go.Proofs.YtpankmaljafnnaaGreatDoor
