/-
  Helper: the walks of cmp.Compare, cmp.Or and Cmp.
-/
import Derived.Test.YtljanfbchgalbaaDoorInSec
namespace Go.Proofs.YtljanfbchgalbaaDoor
open Go.RowKit
set_option linter.unusedVariables false

def cm (x y : Int) : Int := if x < y then -1 else if y < x then 1 else 0
theorem nan64 (x : Int) (w : World) : Calls Tryd.prog 50 #[.int .i64 x] w fun e w' => e = .returned (.bool false) ∧ w = w' := by
  go_enter Tryd.func50, Tryd.ntmps50
  go_wp2
  go_ret
  exact ⟨by simp, rfl⟩
theorem cmp64 (x y : Int) (w : World) : Calls Tryd.prog 37 #[.int .i64 x, .int .i64 y] w fun e w' => e = .returned (.int .i64 (cm x y)) ∧ w = w' := by
  have HN := Lib.hid nan64
  rcases Int.lt_trichotomy x y with h | h | h
  · have hc : cm x y = -1 := by unfold cm; rw [if_pos h]
    rw [hc]
    clear hc
    go_enter Tryd.func37, Tryd.ntmps37
    go_wp2_with fail
    refine (HN.out _ _).mono ?_
    rintro e w1 ⟨rfl, rfl⟩
    go_wp2_with fail
    refine (HN.out _ _).mono ?_
    rintro e w1 ⟨rfl, rfl⟩
    go_wp2
    go_ret
    exact ⟨rfl, rfl⟩
  · subst h
    have hc : cm x x = 0 := by unfold cm; rw [if_neg (by omega), if_neg (by omega)]
    rw [hc]
    clear hc
    go_enter Tryd.func37, Tryd.ntmps37
    go_wp2_with fail
    refine (HN.out _ _).mono ?_
    rintro e w1 ⟨rfl, rfl⟩
    go_wp2_with fail
    refine (HN.out _ _).mono ?_
    rintro e w1 ⟨rfl, rfl⟩
    go_wp2
    go_ret
    exact ⟨rfl, rfl⟩
  · have hc : cm x y = 1 := by unfold cm; rw [if_neg (by omega), if_pos h]
    have h2 : ¬ x < y := by omega
    rw [hc]
    clear hc
    go_enter Tryd.func37, Tryd.ntmps37
    go_wp2_with fail
    refine (HN.out _ _).mono ?_
    rintro e w1 ⟨rfl, rfl⟩
    go_wp2_with fail
    refine (HN.out _ _).mono ?_
    rintro e w1 ⟨rfl, rfl⟩
    go_wp2
    go_ret
    exact ⟨rfl, rfl⟩
theorem cmpI (x y : Int) (w : World) : Calls Tryd.prog 38 #[.int .i64 x, .int .i64 y] w fun e w' => e = .returned (.int .i64 (cm x y)) ∧ w = w' :=
  (Tryd.cmp_Compare_int x y w).mono fun e w' ⟨h1, h2⟩ => ⟨by rw [h1]; unfold cm Lib.compareInt; rfl, h2.symm⟩
/-- the first of two numbers that is not 0 -/
theorem or_two (g : Nat) (x y : Int) (w : World) (h0 : w.cell? ⟨g, 0, none⟩ = some (.int .i64 x)) (h1 : w.cell? ⟨g, 1, none⟩ = some (.int .i64 y)) :
    Calls Tryd.prog 36 #[.slice (some ⟨g, 0, none⟩) 2 2] w fun e w' => e = .returned (.int .i64 (if x = 0 then y else x)) ∧ Below w.heap.size w w' := by
  have HF : Hid (∀ z, z = (if x = 0 then y else x) → (fun (e : Ending) (w' : World) => e = .returned (.int .i64 (if x = 0 then y else x)) ∧ w = w') (.returned (.int .i64 z)) w) := fun z hz => ⟨by rw [hz], rfl⟩
  refine Calls.mono (R := fun (e : Ending) (w' : World) => e = .returned (.int .i64 (if x = 0 then y else x)) ∧ w = w') ?_ (fun e w' h => ⟨h.1, by rw [← h.2]; exact Below.refl _ _⟩)
  generalize (fun (e : Ending) (w' : World) => e = .returned (.int .i64 (if x = 0 then y else x)) ∧ w = w') = Po at *
  go_enter Tryd.func36, Tryd.ntmps36
  go_wp2
  go_loop [8] (fun i => ∃ k : Nat, k ≤ 2 ∧ i = .int .i64 k ∧ Hid ((1 ≤ k → x = 0) ∧ (2 ≤ k → y = 0))) (fun i => 2 - (intOf i).toNat)
  case atStart => exact ⟨0, by omega, rfl, fun h => absurd h (by omega), fun h => absurd h (by omega)⟩
  case round =>
    obtain ⟨k, hk, rfl, hz⟩ := hrel
    rcases (show k = 0 ∨ k = 1 ∨ k = 2 by omega) with rfl | rfl | rfl
    · by_cases hx : x = 0
      · clear HF
        subst hx
        clear hz
        go_wp2
        go_round
        case rel => exact ⟨1, by omega, by go_num, fun _ => by first | rfl | trivial, fun h => absurd h (by omega)⟩
        case measure => simp [intOf]
      · have hfin := Lib.hid (HF.out x (by rw [if_neg hx]))
        have hxx : (x == 0) = false := by rw [beq_eq_false_iff_ne]; exact hx
        clear HF hz
        go_wp2
        exact hfin.out
    · obtain rfl : x = 0 := hz.out.1 (by omega)
      by_cases hy : y = 0
      · clear HF
        subst hy
        clear hz
        go_wp2
        go_round
        case rel => exact ⟨2, by omega, by go_num, fun _ => by first | rfl | trivial, fun _ => by first | rfl | trivial⟩
        case measure => simp [intOf]
      · have hfin := Lib.hid (HF.out y (by rw [if_pos rfl]))
        have hyy : (y == 0) = false := by rw [beq_eq_false_iff_ne]; exact hy
        clear HF hz
        go_wp2
        exact hfin.out
    · obtain rfl : x = 0 := hz.out.1 (by omega)
      obtain rfl : y = 0 := hz.out.2 (by omega)
      have hfin := Lib.hid (HF.out 0 (by rw [if_pos rfl]))
      clear HF hz
      go_wp2
      exact hfin.out
set_option maxRecDepth 100000 in
set_option maxHeartbeats 4000000 in
theorem Cmp_any (a b : ByteArray) (w : World) (hT : Tabs w) (ha : a.size ≤ 1000000) (hb : b.size ≤ 1000000) (m1 m2 : Int × Nat × Int) (e1 : secF a = m1) (e2 : secF b = m2) (c : Int)
    (hc : c = if m1.2.2 ≠ 0 ∨ m2.2.2 ≠ 0 then 0 else if cm m1.1 m2.1 = 0 then cm m1.2.1 m2.2.1 else cm m1.1 m2.1) :
    Calls Tryd.prog 23 #[.string a, .string b] w fun e w' => e = .returned (.int .i64 c) ∧ Below w.heap.size w w' := by
  have H1 := Lib.hid (fun W hW => Seconds_any a W hW ha)
  have H2 := Lib.hid (fun W hW => Seconds_any b W hW hb)
  rw [e1] at H1
  rw [e2] at H2
  obtain ⟨x, y, z⟩ := m1
  obtain ⟨x', y', z'⟩ := m2
  replace H1 : Hid (∀ W, Tabs W → Calls Tryd.prog 17 #[.string a] W fun e w' => e = .returned (.tuple #[.int .i64 x, .int .i64 y, .int .i64 z]) ∧ Below W.heap.size W w') := H1
  replace H2 : Hid (∀ W, Tabs W → Calls Tryd.prog 17 #[.string b] W fun e w' => e = .returned (.tuple #[.int .i64 x', .int .i64 y', .int .i64 z']) ∧ Below W.heap.size W w') := H2
  replace hc : c = if z ≠ 0 ∨ z' ≠ 0 then 0 else if cm x x' = 0 then cm y y' else cm x x' := hc
  have HT : Hid (∀ W, Below w.heap.size w W → Tabs W) := fun W hb => hT.below hb hT.1
  have HF : Hid (∀ c' w', c' = c → Below w.heap.size w w' → (fun (e : Ending) (w' : World) => e = .returned (.int .i64 c) ∧ Below w.heap.size w w') (.returned (.int .i64 c')) w') := fun c' w' h1 h2 => ⟨by rw [h1], h2⟩
  have hch := Lib.hid hc
  clear hT ha hb e1 e2 hc
  generalize (fun (e : Ending) (w' : World) => e = .returned (.int .i64 c) ∧ Below w.heap.size w w') = Po at *
  go_enter Tryd.func23, Tryd.ntmps23
  go_wp2_with fail
  refine (H1.out _ (HT.out _ (Below.refl _ _))).mono ?_
  rintro e w1 ⟨rfl, hb1⟩
  have hb1h := Lib.hid hb1
  clear hb1
  go_wp2_with fail
  refine (H2.out _ (HT.out _ hb1h.out)).mono ?_
  rintro e w2 ⟨rfl, hb2⟩
  have hb2h := bt hb1h hb2
  clear hb2
  by_cases hz : z ≠ 0 ∨ z' ≠ 0
  · have hfin := Lib.hid (HF.out 0 w2 (by rw [hch.out, if_pos hz]) hb2h.out)
    clear HF hch
    by_cases hz1 : z = 0
    · have hz2 : ¬ z' = 0 := by omega
      clear hz
      subst hz1
      go_wp2
      exact hfin.out
    · clear hz
      go_wp2
      exact hfin.out
  · obtain rfl : z = 0 := by omega
    obtain rfl : z' = 0 := by omega
    have HF2 := Lib.hid (HF.out (if cm x x' = 0 then cm y y' else cm x x') · (by rw [hch.out, if_neg hz]))
    have HC1 := Lib.hid cmp64
    have HC2 := Lib.hid cmpI
    clear hz HF hch
    go_wp2_with fail
    refine (HC1.out _ _ _).mono ?_
    rintro e w3 ⟨rfl, rfl⟩
    go_wp2_with fail
    refine (HC2.out _ _ _).mono ?_
    rintro e w3 ⟨rfl, rfl⟩
    generalize cm x x' = p at *
    generalize cm y y' = q at *
    have HO := Lib.hid or_two
    go_wp2_with fail
    have hb9 := Blk.new w2 3 [.int .i64 p, .int .i64 q]
    have hba : Hid (Below w.heap.size w (w2.alloc (.cells #[.int .i64 p, .int .i64 q] 3))) := hb2h.out.alloc hb2h.out.size _
    refine (HO.out _ p q _ (hb9.cell 0 _ rfl) (hb9.cell 1 _ rfl)).mono ?_
    rintro e w4 ⟨rfl, hb4⟩
    have hfin := Lib.hid (HF2.out w4 (bt hba hb4).out)
    clear HF2 hb4 hba hb9 HO
    generalize (if p = 0 then q else p) = r9 at *
    go_wp2
    exact hfin.out
end Go.Proofs.YtljanfbchgalbaaDoor
