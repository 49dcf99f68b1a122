/-
  Helper: the walk of the reference's InRange.
-/
import Derived.Test.YtckeefjmamggmaaDoorInRd5
namespace Go.Proofs.YtckeefjmamggmaaDoor
open Go.RowKit
set_option linter.unusedVariables false
set_option linter.unusedSimpArgs false

set_option maxRecDepth 100000 in
set_option maxHeartbeats 8000000 in
theorem rin_walk (dt tm zn late : Bool) (y mo d h mi s na off L : Int) (HM : Hid (∀ (W : World) (q : Nat), 1 ≤ mo → Calls Tryd.prog 32 #[.int .i64 y, .int .i64 mo] (W.drewN q) fun e w'' => e = .returned (.int .i64 L) ∧ ∃ m', w'' = W.drewN m')) (w : World) :
    Calls Tryd.prog 18 #[.agg (RT.v ⟨dt, tm, zn, y, mo, d, h, mi, s, na, off, late⟩).toArray] w fun e w' => e = .returned (.bool (decide ((dt = true → 1 ≤ mo ∧ mo ≤ 12 ∧ 1 ≤ d ∧ d ≤ L) ∧ late = false ∧ h ≤ 23 ∧ mi ≤ 59 ∧ s ≤ 59))) ∧ Below w.heap.size w w' := by
  obtain ⟨wb, hwb⟩ : ∃ wb, w.alloc (.cells (RT.v ⟨dt, tm, zn, y, mo, d, h, mi, s, na, off, late⟩).toArray 30) = wb := ⟨_, rfl⟩
  obtain ⟨N, hN⟩ : ∃ N, w.heap.size = N := ⟨_, rfl⟩
  have hB : Hid (Blk wb N 30 (RT.v ⟨dt, tm, zn, y, mo, d, h, mi, s, na, off, late⟩)) := by rw [← hwb, ← hN]; exact Blk.new w _ _
  have hb : Hid (Below w.heap.size w wb) := by rw [← hwb]; exact (Below.refl _ w).alloc (Nat.le_refl _) _
  have c0 := hB.out.cell 0 (.bool dt) rfl
  have c3 := hB.out.cell 3 (.int .i64 y) rfl
  have c4 := hB.out.cell 4 (.int .i64 mo) rfl
  have c5 := hB.out.cell 5 (.int .i64 d) rfl
  have c6 := hB.out.cell 6 (.int .i64 h) rfl
  have c7 := hB.out.cell 7 (.int .i64 mi) rfl
  have c8 := hB.out.cell 8 (.int .i64 s) rfl
  have c11 := hB.out.cell 11 (.bool late) rfl
  have HF : Hid (∀ b W, decide ((dt = true → 1 ≤ mo ∧ mo ≤ 12 ∧ 1 ≤ d ∧ d ≤ L) ∧ late = false ∧ h ≤ 23 ∧ mi ≤ 59 ∧ s ≤ 59) = b → Below w.heap.size w W → (fun e w' => e = .returned (.bool (decide ((dt = true → 1 ≤ mo ∧ mo ≤ 12 ∧ 1 ≤ d ∧ d ≤ L) ∧ late = false ∧ h ≤ 23 ∧ mi ≤ 59 ∧ s ≤ 59))) ∧ Below w.heap.size w w') (Ending.returned (.bool b)) W) := fun b W h1 h2 => by subst h1; exact ⟨rfl, h2⟩
  generalize (fun (e : Ending) (w' : World) => e = .returned (.bool (decide ((dt = true → 1 ≤ mo ∧ mo ≤ 12 ∧ 1 ≤ d ∧ d ≤ L) ∧ late = false ∧ h ≤ 23 ∧ mi ≤ 59 ∧ s ≤ 59))) ∧ Below w.heap.size w w') = Po at *
  cases dt with
  | false =>
    cases late with
    | true =>
      have hfin : Hid (∀ W, Below w.heap.size w W → Po (.returned (.bool false)) W) := fun W h2 => HF.out false W (decide_eq_false fun x => by cases x.2.1) h2
      clear HF hB
      go_enter Tryd.func18, Tryd.ntmps18
      go_wp2_with fail
      go_quiet (fail)
      go_wp2
      exact hfin.out _ (Below.drewN hb.out nq)
    | false =>
      by_cases gh : h ≤ 23
      case neg =>
        have hfin : Hid (∀ W, Below w.heap.size w W → Po (.returned (.bool false)) W) := fun W h2 => HF.out false W (decide_eq_false fun x => gh x.2.2.1) h2
        clear HF hB
        go_enter Tryd.func18, Tryd.ntmps18
        go_wp2_with fail
        go_quiet (fail)
        go_wp2
        exact hfin.out _ (Below.drewN hb.out nq)
      case pos =>
        by_cases gmi : mi ≤ 59
        case neg =>
          have hfin : Hid (∀ W, Below w.heap.size w W → Po (.returned (.bool false)) W) := fun W h2 => HF.out false W (decide_eq_false fun x => gmi x.2.2.2.1) h2
          clear HF hB
          go_enter Tryd.func18, Tryd.ntmps18
          go_wp2_with fail
          go_quiet (fail)
          go_wp2
          exact hfin.out _ (Below.drewN hb.out nq)
        case pos =>
          by_cases gs : s ≤ 59
          case neg =>
            have hfin : Hid (∀ W, Below w.heap.size w W → Po (.returned (.bool false)) W) := fun W h2 => HF.out false W (decide_eq_false fun x => gs x.2.2.2.2) h2
            clear HF hB
            go_enter Tryd.func18, Tryd.ntmps18
            go_wp2_with fail
            go_quiet (fail)
            go_wp2
            rw [show decide (s ≤ 59) = false from decide_eq_false (by omega)]
            exact hfin.out _ (Below.drewN hb.out nq)
          case pos =>
            have hfin : Hid (∀ W, Below w.heap.size w W → Po (.returned (.bool true)) W) := fun W h2 => HF.out true W (decide_eq_true ⟨(fun x => by cases x), rfl, gh, gmi, gs⟩) h2
            clear HF hB
            go_enter Tryd.func18, Tryd.ntmps18
            go_wp2_with fail
            go_quiet (fail)
            go_wp2
            exact hfin.out _ (Below.drewN hb.out nq)
  | true =>
    by_cases g1 : mo < 1
    case pos =>
      have hfin : Hid (∀ W, Below w.heap.size w W → Po (.returned (.bool false)) W) := fun W h2 => HF.out false W (decide_eq_false fun x => by have := (x.1 rfl).1; omega) h2
      clear HF hB
      have bg1 : decide (mo < 1) = true := decide_eq_true g1
      clear HM g1
      go_enter Tryd.func18, Tryd.ntmps18
      go_wp2_with fail
      go_quiet (fail)
      go_wp2
      exact hfin.out _ (Below.drewN hb.out nq)
    case neg =>
      by_cases g2 : 12 < mo
      case pos =>
        have hfin : Hid (∀ W, Below w.heap.size w W → Po (.returned (.bool false)) W) := fun W h2 => HF.out false W (decide_eq_false fun x => by have := (x.1 rfl).2.1; omega) h2
        clear HF hB
        have bg1 : decide (mo < 1) = false := decide_eq_false g1
        have bg2 : decide (12 < mo) = true := decide_eq_true g2
        clear HM g1 g2
        go_enter Tryd.func18, Tryd.ntmps18
        go_wp2_with fail
        go_quiet (fail)
        go_wp2
        exact hfin.out _ (Below.drewN hb.out nq)
      case neg =>
        by_cases g3 : d < 1
        case pos =>
          have hfin : Hid (∀ W, Below w.heap.size w W → Po (.returned (.bool false)) W) := fun W h2 => HF.out false W (decide_eq_false fun x => by have := (x.1 rfl).2.2.1; omega) h2
          clear HF hB
          have bg1 : decide (mo < 1) = false := decide_eq_false g1
          have bg2 : decide (12 < mo) = false := decide_eq_false g2
          have bg3 : decide (d < 1) = true := decide_eq_true g3
          clear HM g1 g2 g3
          go_enter Tryd.func18, Tryd.ntmps18
          go_wp2_with fail
          go_quiet (fail)
          go_wp2
          exact hfin.out _ (Below.drewN hb.out nq)
        case neg =>
          by_cases g4 : L < d
          case pos =>
            have hfin : Hid (∀ W, Below w.heap.size w W → Po (.returned (.bool false)) W) := fun W h2 => HF.out false W (decide_eq_false fun x => by have := (x.1 rfl).2.2.2; omega) h2
            clear HF hB
            have bg1 : decide (mo < 1) = false := decide_eq_false g1
            have bg2 : decide (12 < mo) = false := decide_eq_false g2
            have bg3 : decide (d < 1) = false := decide_eq_false g3
            have bg4 : decide (L < d) = true := decide_eq_true g4
            have HM2 := Lib.hid (fun W q => HM.out W q (by omega))
            clear HM g1 g2 g3 g4
            go_enter Tryd.func18, Tryd.ntmps18
            go_wp2_with fail
            go_quiet ((go_at_call 32; exact HM2.out _ _))
            go_wp2
            exact hfin.out _ (Below.drewN hb.out nq)
          case neg =>
            cases late with
            | true =>
              have hfin : Hid (∀ W, Below w.heap.size w W → Po (.returned (.bool false)) W) := fun W h2 => HF.out false W (decide_eq_false fun x => by cases x.2.1) h2
              clear HF hB
              have bg1 : decide (mo < 1) = false := decide_eq_false g1
              have bg2 : decide (12 < mo) = false := decide_eq_false g2
              have bg3 : decide (d < 1) = false := decide_eq_false g3
              have bg4 : decide (L < d) = false := decide_eq_false g4
              have HM2 := Lib.hid (fun W q => HM.out W q (by omega))
              clear HM g1 g2 g3 g4
              go_enter Tryd.func18, Tryd.ntmps18
              go_wp2_with fail
              go_quiet ((go_at_call 32; exact HM2.out _ _))
              go_wp2
              exact hfin.out _ (Below.drewN hb.out nq)
            | false =>
              by_cases gh : h ≤ 23
              case neg =>
                have hfin : Hid (∀ W, Below w.heap.size w W → Po (.returned (.bool false)) W) := fun W h2 => HF.out false W (decide_eq_false fun x => gh x.2.2.1) h2
                clear HF hB
                have bg1 : decide (mo < 1) = false := decide_eq_false g1
                have bg2 : decide (12 < mo) = false := decide_eq_false g2
                have bg3 : decide (d < 1) = false := decide_eq_false g3
                have bg4 : decide (L < d) = false := decide_eq_false g4
                have HM2 := Lib.hid (fun W q => HM.out W q (by omega))
                clear HM g1 g2 g3 g4
                go_enter Tryd.func18, Tryd.ntmps18
                go_wp2_with fail
                go_quiet ((go_at_call 32; exact HM2.out _ _))
                go_wp2
                exact hfin.out _ (Below.drewN hb.out nq)
              case pos =>
                by_cases gmi : mi ≤ 59
                case neg =>
                  have hfin : Hid (∀ W, Below w.heap.size w W → Po (.returned (.bool false)) W) := fun W h2 => HF.out false W (decide_eq_false fun x => gmi x.2.2.2.1) h2
                  clear HF hB
                  have bg1 : decide (mo < 1) = false := decide_eq_false g1
                  have bg2 : decide (12 < mo) = false := decide_eq_false g2
                  have bg3 : decide (d < 1) = false := decide_eq_false g3
                  have bg4 : decide (L < d) = false := decide_eq_false g4
                  have HM2 := Lib.hid (fun W q => HM.out W q (by omega))
                  clear HM g1 g2 g3 g4
                  go_enter Tryd.func18, Tryd.ntmps18
                  go_wp2_with fail
                  go_quiet ((go_at_call 32; exact HM2.out _ _))
                  go_wp2
                  exact hfin.out _ (Below.drewN hb.out nq)
                case pos =>
                  by_cases gs : s ≤ 59
                  case neg =>
                    have hfin : Hid (∀ W, Below w.heap.size w W → Po (.returned (.bool false)) W) := fun W h2 => HF.out false W (decide_eq_false fun x => gs x.2.2.2.2) h2
                    clear HF hB
                    have bg1 : decide (mo < 1) = false := decide_eq_false g1
                    have bg2 : decide (12 < mo) = false := decide_eq_false g2
                    have bg3 : decide (d < 1) = false := decide_eq_false g3
                    have bg4 : decide (L < d) = false := decide_eq_false g4
                    have HM2 := Lib.hid (fun W q => HM.out W q (by omega))
                    clear HM g1 g2 g3 g4
                    go_enter Tryd.func18, Tryd.ntmps18
                    go_wp2_with fail
                    go_quiet ((go_at_call 32; exact HM2.out _ _))
                    go_wp2
                    rw [show decide (s ≤ 59) = false from decide_eq_false (by omega)]
                    exact hfin.out _ (Below.drewN hb.out nq)
                  case pos =>
                    have hfin : Hid (∀ W, Below w.heap.size w W → Po (.returned (.bool true)) W) := fun W h2 => HF.out true W (decide_eq_true ⟨(fun _ => ⟨by omega, by omega, by omega, by omega⟩), rfl, gh, gmi, gs⟩) h2
                    clear HF hB
                    have bg1 : decide (mo < 1) = false := decide_eq_false g1
                    have bg2 : decide (12 < mo) = false := decide_eq_false g2
                    have bg3 : decide (d < 1) = false := decide_eq_false g3
                    have bg4 : decide (L < d) = false := decide_eq_false g4
                    have HM2 := Lib.hid (fun W q => HM.out W q (by omega))
                    clear HM g1 g2 g3 g4
                    go_enter Tryd.func18, Tryd.ntmps18
                    go_wp2_with fail
                    go_quiet ((go_at_call 32; exact HM2.out _ _))
                    go_wp2
                    exact hfin.out _ (Below.drewN hb.out nq)
/-- the date's range, the time's range -/
def dtOk (y m d : Nat) : Prop := 1 ≤ m ∧ m ≤ 12 ∧ 1 ≤ d ∧ (d : Int) ≤ ml (leap (y : Int)) m
def tmOk (late : Bool) (h i k : Nat) : Prop := late = false ∧ h ≤ 23 ∧ i ≤ 59 ∧ k ≤ 59
instance (y m d : Nat) : Decidable (dtOk y m d) := by unfold dtOk; infer_instance
instance (late : Bool) (h i k : Nat) : Decidable (tmOk late h i k) := by unfold tmOk; infer_instance
theorem rin_any (dt tm zn late : Bool) (y m d h i k : Nat) (na off : Int) (w : World) :
    Calls Tryd.prog 18 #[.agg (RT.v ⟨dt, tm, zn, (y : Int), (m : Int), (d : Int), (h : Int), (i : Int), (k : Int), na, off, late⟩).toArray] w fun e w' => e = .returned (.bool (decide ((dt = true → dtOk y m d) ∧ tmOk late h i k))) ∧ Below w.heap.size w w' := by
  refine (rin_walk dt tm zn late (y : Int) (m : Int) (d : Int) (h : Int) (i : Int) (k : Int) na off (ml (leap (y : Int)) m) (fun W q hm => (month_any y m (by omega) (W.drewN q)).mono fun e w' ⟨h1, r, h2⟩ => ⟨h1, q + r, by rw [h2]; exact World.drewN_drewN _ _ _⟩) w).mono ?_
  rintro e w' ⟨h1, h2⟩
  refine ⟨h1.trans ?_, h2⟩
  congr 2
  refine decide_eq_decide.2 ?_
  unfold dtOk tmOk
  constructor
  · rintro ⟨a, b, c, d, e⟩
    exact ⟨fun g => by have := a g; omega, b, by omega, by omega, by omega⟩
  · rintro ⟨a, b, c, d, e⟩
    exact ⟨fun g => by have := a g; omega, b, by omega, by omega, by omega⟩
end Go.Proofs.YtckeefjmamggmaaDoor
