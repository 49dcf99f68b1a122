/-
  Helper: the walk of the statement on the order of dates.
-/
import Derived.Test.YtmnopohjnbpinaaDoorCvEq
namespace Go.Proofs.YtmnopohjnbpinaaDoor
open Go.RowKit
set_option linter.unusedVariables false

def pk (p q : Int) (r : Bool) : Bool := if p = q then r else decide (p < q)
theorem pk_eq (p q : Int) (r : Bool) (h : p = q) : pk p q r = r := if_pos h
theorem pk_ne (p q : Int) (r : Bool) (h : ¬ p = q) : pk p q r = decide (p < q) := if_neg h
theorem pk_before (x y z x' y' z' : Int) : pk x x' (pk y y' (pk z z' false)) = true ↔ Before x y z x' y' z' := by
  unfold pk Before
  split
  · split
    · split
      · simp; omega
      · simp; omega
    · simp; omega
  · simp; omega
theorem ord_facts (x y z x' y' z' : Int) (h : IsD x y z) (h' : IsD x' y' z') :
    pk x x' (pk y y' (pk z z' false)) = decide (dn x y z < dn x' y' z') ∧ (x == x' && (y == y' && z == z')) = (dn x y z == dn x' y' z') := by
  constructor
  · rw [Bool.eq_iff_iff, pk_before, decide_eq_true_iff, dn_lt_iff _ _ _ _ _ _ h h']
  · rw [Bool.eq_iff_iff, Bool.and_eq_true, Bool.and_eq_true, beq_iff_eq, beq_iff_eq, beq_iff_eq, beq_iff_eq]
    constructor
    · rintro ⟨rfl, rfl, rfl⟩; rfl
    · exact dn_inj _ _ _ _ _ _ h h'

set_option maxRecDepth 100000 in
set_option maxHeartbeats 4000000 in
theorem walkCivilOrders (w : World) (hT : LTab w) (x y z : Int) (hx : -32768 ≤ x ∧ x ≤ 32767) (hy : -32768 ≤ y ∧ y ≤ 32767) (hz : -32768 ≤ z ∧ z ≤ 32767) (x' y' z' : Int) (hx' : -32768 ≤ x' ∧ x' ≤ 32767) (hy' : -32768 ≤ y' ∧ y' ≤ 32767) (hz' : -32768 ≤ z' ∧ z' ≤ 32767) :
    Calls Tryd.prog 7 #[.agg #[.int .i16 x, .int .i16 y, .int .i16 z], .agg #[.int .i16 x', .int .i16 y', .int .i16 z']] w fun e w' => e = .returned (.bool true) ∧ Below w.heap.size w w' := by
  have HA := Lib.hid (fun w hT => awake_any w hT)
  have HT := Lib.hid hT
  obtain ⟨w0, hw0⟩ : ∃ w0, w0 = (w.alloc (.cells #[.int .i16 x, .int .i16 y, .int .i16 z] 35)).alloc (.cells #[.int .i16 x', .int .i16 y', .int .i16 z'] 35) := ⟨_, rfl⟩
  have hbw : Below w.heap.size w w0 := by rw [hw0]; exact ((Below.refl _ w).alloc (Nat.le_refl _) _).alloc (by simp) _
  have hs : w0.heap.size = w.heap.size + 1 + 1 := by rw [hw0]; simp
  have hB1 : B3 w0 w.heap.size x y z := by rw [hw0]; exact (B3.new w x y z).below ((Below.refl _ _).alloc (Nat.le_refl _) _) (by simp)
  have hB2 : B3 w0 (w.heap.size + 1) x' y' z' := by
    rw [hw0]
    have h := B3.new (w.alloc (.cells #[.int .i16 x, .int .i16 y, .int .i16 z] 35)) x' y' z'
    rwa [World.size_alloc] at h
  -- what stands behind a call: the boxes, and nothing else of the past changed
  have HK : Hid (∀ w', Below (w.heap.size + 1 + 1) w0 w' → LTab w' ∧ B3 w' w.heap.size x y z ∧ B3 w' (w.heap.size + 1) x' y' z' ∧ Below w.heap.size w w') := Lib.hid fun w' h =>
    have hb := hbw.trans (h.mono (by omega))
    ⟨HT.out.below hb HT.out.1, hB1.below h (by omega), hB2.below h (by omega), hb⟩
  have HS1 := Lib.hid hs
  have HW0 := Lib.hid hw0
  clear hT hbw hs hB1 hB2 hw0
  go_enter Tryd.func7, Tryd.ntmps7
  go_wp2_with fail
  rw [← HW0.out]
  refine (HA.out w0 (HK.out w0 (Below.refl _ _)).1).mono ?_
  rintro e w1 ⟨rfl, h1⟩
  rw [HS1.out] at h1
  have h1h := Lib.hid h1
  clear h1 HW0 HS1
  obtain ⟨c0, c1, c2, hlt⟩ := (HK.out _ h1h.out).2.1.facts
  obtain ⟨d0, d1, d2, hlt2⟩ := (HK.out _ h1h.out).2.2.1.facts
  have hb1 := Lib.hid (HK.out _ h1h.out).2.2.2
  have hT1 := Lib.hid (HK.out _ h1h.out).1
  clear HK h1h
  have HX := Lib.hid (days_any x y z w1 hT1.out)
  have HY := Lib.hid (fun q => days_any x' y' z' (w1.drewN q) (hT1.out.drewN q))
  by_cases ha : IsD x y z
  · have HX := Lib.hid (days_yes x y z w1 hT1.out ha)
    by_cases hb : IsD x' y' z'
    · have HY := Lib.hid (fun q => days_yes x' y' z' (w1.drewN q) (hT1.out.drewN q) hb)
      obtain ⟨ho1, ho2⟩ := ord_facts x y z x' y' z' ha hb
      have HO1 := Lib.hid ho1
      have HO2 := Lib.hid ho2
      clear ha hb ho1 ho2
      generalize dn x y z = X at *
      generalize dn x' y' z' = Y at *
      go_wp2_with fail
      refine HX.out.mono ?_
      rintro e w2 ⟨rfl, q2, rfl⟩
      go_wp2_with fail
      refine (HY.out _).mono ?_
      rintro e w3 ⟨rfl, q3, rfl⟩
      clear HX HY
      go_wp2_with fail
      go_loopw [9, 10] (fun v i wr => ∃ (q : Nat) (r : Bool), v = .bool r ∧ wr = w1.drewN q ∧ ((i = .int .i64 2 ∧ Hid (r = false)) ∨ (i = .int .i64 1 ∧ Hid (r = pk z z' false)) ∨ (i = .int .i64 0 ∧ Hid (r = pk y y' (pk z z' false))) ∨ (i = .int .i64 (-1) ∧ Hid (r = pk x x' (pk y y' (pk z z' false)))))) (fun _ i _ => (intOf i + 1).toNat)
      case atStart => exact ⟨_, false, rfl, rfl, .inl ⟨rfl, Lib.hid rfl⟩⟩
      case round =>
        obtain ⟨q, r, rfl, rfl, hr⟩ := hrel
        rcases hr with ⟨rfl, HR⟩ | ⟨rfl, HR⟩ | ⟨rfl, HR⟩ | ⟨rfl, HR⟩
        · by_cases g : z = z'
          · have hn : (z != z') = false := by rw [g]; simp
            have HR2 := Lib.hid ((pk_eq z z' (false) g).trans HR.out.symm)
            clear g
            go_wp2_with fail
            go_quiet (fail)
            go_wp2_with fail
            go_roundw
            case rel => exact ⟨_, _, rfl, rfl, .inr (.inl ⟨rfl, Lib.hid HR2.out.symm⟩)⟩
            case measure => simp [intOf]
          · have hn : (z != z') = true := by simpa using g
            have HR2 := Lib.hid (pk_ne z z' (false) g)
            clear g
            go_wp2_with fail
            go_quiet (fail)
            go_wp2_with fail
            go_quiet (fail)
            go_wp2_with fail
            go_roundw
            case rel => exact ⟨_, _, rfl, rfl, .inr (.inl ⟨rfl, Lib.hid HR2.out.symm⟩)⟩
            case measure => simp [intOf]
        · by_cases g : y = y'
          · have hn : (y != y') = false := by rw [g]; simp
            have HR2 := Lib.hid ((pk_eq y y' (pk z z' false) g).trans HR.out.symm)
            clear g
            go_wp2_with fail
            go_quiet (fail)
            go_wp2_with fail
            go_roundw
            case rel => exact ⟨_, _, rfl, rfl, .inr (.inr (.inl ⟨rfl, Lib.hid HR2.out.symm⟩))⟩
            case measure => simp [intOf]
          · have hn : (y != y') = true := by simpa using g
            have HR2 := Lib.hid (pk_ne y y' (pk z z' false) g)
            clear g
            go_wp2_with fail
            go_quiet (fail)
            go_wp2_with fail
            go_quiet (fail)
            go_wp2_with fail
            go_roundw
            case rel => exact ⟨_, _, rfl, rfl, .inr (.inr (.inl ⟨rfl, Lib.hid HR2.out.symm⟩))⟩
            case measure => simp [intOf]
        · by_cases g : x = x'
          · have hn : (x != x') = false := by rw [g]; simp
            have HR2 := Lib.hid ((pk_eq x x' (pk y y' (pk z z' false)) g).trans HR.out.symm)
            clear g
            go_wp2_with fail
            go_quiet (fail)
            go_wp2_with fail
            go_roundw
            case rel => exact ⟨_, _, rfl, rfl, .inr (.inr (.inr ⟨rfl, Lib.hid HR2.out.symm⟩))⟩
            case measure => simp [intOf]
          · have hn : (x != x') = true := by simpa using g
            have HR2 := Lib.hid (pk_ne x x' (pk y y' (pk z z' false)) g)
            clear g
            go_wp2_with fail
            go_quiet (fail)
            go_wp2_with fail
            go_quiet (fail)
            go_wp2_with fail
            go_roundw
            case rel => exact ⟨_, _, rfl, rfl, .inr (.inr (.inr ⟨rfl, Lib.hid HR2.out.symm⟩))⟩
            case measure => simp [intOf]
        · have hr : r = decide (X < Y) := HR.out.trans HO1.out
          have heq := eq_arr x y z x' y' z'
          rw [HO2.out] at heq
          clear HR HO1 HO2
          rcases Int.lt_trichotomy X Y with g | g | g
          · have hl : decide (X < Y) = true := decide_eq_true g
            have hne : (X == Y) = false := by rw [beq_eq_false_iff_ne]; omega
            rw [hne] at heq
            rw [hl] at hr
            subst hr
            go_wp2_with fail
            go_ret
            exact ⟨rfl, hb1.out.trans (drewN_below _ _ _ hb1.out.size)⟩
          · subst g
            have hl : decide (X < X) = false := decide_eq_false (by omega)
            rw [show (X == X) = true by simp] at heq
            rw [hl] at hr
            subst hr
            go_wp2_with fail
            go_ret
            exact ⟨rfl, hb1.out.trans (drewN_below _ _ _ hb1.out.size)⟩
          · have hl : decide (X < Y) = false := decide_eq_false (by omega)
            have hne : (X == Y) = false := by rw [beq_eq_false_iff_ne]; omega
            rw [hne] at heq
            rw [hl] at hr
            subst hr
            go_wp2_with fail
            go_ret
            exact ⟨rfl, hb1.out.trans (drewN_below _ _ _ hb1.out.size)⟩
    · have HY := Lib.hid (fun q => days_no x' y' z' (w1.drewN q) (hT1.out.drewN q) hb)
      clear hb ha
      generalize dn x y z = X at *
      go_wp2_with fail
      refine HX.out.mono ?_
      rintro e w2 ⟨rfl, q2, rfl⟩
      go_wp2_with fail
      refine (HY.out _).mono ?_
      rintro e w3 ⟨rfl, q3, rfl⟩
      go_wp2_with fail
      go_ret
      exact ⟨rfl, hb1.out.trans (drewN_below _ _ _ hb1.out.size)⟩
  · have HX := Lib.hid (days_no x y z w1 hT1.out ha)
    clear ha
    go_wp2_with fail
    refine HX.out.mono ?_
    rintro e w2 ⟨rfl, q2, rfl⟩
    go_wp2_with fail
    refine (HY.out _).mono ?_
    rintro e w3 ⟨n, f, hnf, rfl, h3⟩
    have hb3 := Lib.hid (hb1.out.trans ((drewN_below _ w1 q2 hb1.out.size).trans (h3.mono hb1.out.size)))
    clear hnf h3 hb1
    go_wp2_with fail
    go_ret
    exact ⟨rfl, hb3.out⟩
end Go.Proofs.YtmnopohjnbpinaaDoor
