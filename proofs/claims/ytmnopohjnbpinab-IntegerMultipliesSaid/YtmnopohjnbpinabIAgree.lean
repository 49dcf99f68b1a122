/-
  Helper: the walks of the statements' agree.
-/
import Derived.Test.YtmnopohjnbpinabIRefText
namespace Go.Proofs.Ytmnopohjnbpinab
open Go.RowKit
set_option linter.unusedVariables false

set_option maxRecDepth 100000 in
set_option maxHeartbeats 1000000 in
theorem agree_ok (z : Int) (hz : Sh z) (a : Option Addr) (cap : Nat) (w : World) (hr : Rb w a (E 10 z.natAbs)) :
    Calls Try.prog 11 #[.string (TB z), .int .i64 0, .agg #[.bool (neg z), .slice a (E 10 z.natAbs).length cap], .int .i64 0] w (TrueP w) := by
  have HB0 : Hid (∀ o, Below w.heap.size w (w.alloc o)) := Lib.hid fun o => (Below.refl _ w).alloc (Nat.le_refl _) o
  have HT : Hid (∀ W, Below w.heap.size w W → Calls Try.prog 24 #[.agg #[.bool (neg z), .slice a (E 10 z.natAbs).length cap]] W fun e w' => e = .returned (.string (TB z)) ∧ Below W.heap.size W w') := Lib.hid fun W h => refText_any z a cap W (hr.go h) (by unfold Sh at hz; omega)
  have HL := Lib.hid (fun W => refLong_any (neg z) a (E 10 z.natAbs).length cap W)
  have HF : Hid (∀ w', Below w.heap.size w w' → TrueP w (.returned (.bool true)) w') := Lib.hid fun w' h => ⟨rfl, h⟩
  rw [decide_eq_false (show ¬ 400 < (E 10 z.natAbs).length by unfold Sh at hz; omega)] at HL
  clear hr hz
  generalize TrueP w = Po at *
  generalize TB z = tz at *
  generalize (E 10 z.natAbs).length = l at *
  generalize neg z = bz at *
  go_enter Try.func11, Try.ntmps11
  go_wp2_with fail
  refine (HL.out _).mono ?_
  rintro e w1 ⟨rfl, h1⟩
  have H1 : Hid (Below w.heap.size w w1) := Lib.hid ((HB0.out _).trans (h1.mono (by simp)))
  have hb1 : w1.cell? ⟨w.heap.size, 0, none⟩ = some (.bool bz) := by
    rw [h1.cell (p := ⟨w.heap.size, 0, none⟩) (by simp), World.cell?_alloc_at _ _ _ _ rfl]; rfl
  have hb2 : w1.cell? ⟨w.heap.size, 1, none⟩ = some (.slice a l cap) := by
    rw [h1.cell (p := ⟨w.heap.size, 1, none⟩) (by simp), World.cell?_alloc_at _ _ _ _ rfl]; rfl
  clear h1 HB0 HL
  go_wp2_with fail
  refine (HT.out _ H1.out).mono ?_
  rintro e w2 ⟨rfl, h2⟩
  have hfin := Lib.hid (HF.out _ (H1.out.trans (h2.mono H1.out.size)))
  clear h2 HT
  go_wp2
  exact hfin.out

set_option maxRecDepth 100000 in
set_option maxHeartbeats 1000000 in
theorem agree_long (z : Int) (hz : ¬ Sh z) (a : Option Addr) (cap : Nat) (w : World) :
    Calls Try.prog 11 #[.string ⟨#[]⟩, .int .i64 6, .agg #[.bool (neg z), .slice a (E 10 z.natAbs).length cap], .int .i64 0] w (TrueP w) := by
  have HB0 : Hid (∀ o, Below w.heap.size w (w.alloc o)) := Lib.hid fun o => (Below.refl _ w).alloc (Nat.le_refl _) o
  have HL := Lib.hid (fun W => refLong_any (neg z) a (E 10 z.natAbs).length cap W)
  have HF : Hid (∀ w', Below w.heap.size w w' → TrueP w (.returned (.bool true)) w') := Lib.hid fun w' h => ⟨rfl, h⟩
  rw [decide_eq_true (show 400 < (E 10 z.natAbs).length by unfold Sh at hz; omega)] at HL
  clear hz
  generalize TrueP w = Po at *
  generalize (E 10 z.natAbs).length = l at *
  generalize neg z = bz at *
  go_enter Try.func11, Try.ntmps11
  go_wp2_with fail
  refine (HL.out _).mono ?_
  rintro e w1 ⟨rfl, h1⟩
  have hfin := Lib.hid (HF.out _ ((HB0.out _).trans (h1.mono (by simp))))
  clear h1 HB0 HL
  go_wp2
  exact hfin.out

set_option maxRecDepth 100000 in
set_option maxHeartbeats 1000000 in
theorem agree_no (k : Int) (hk : k ≠ 0) (a : Option Addr) (l cap : Nat) (bz : Bool) (w : World) :
    Calls Try.prog 11 #[.string ⟨#[]⟩, .int .i64 k, .agg #[.bool bz, .slice a l cap], .int .i64 k] w (TrueP w) := by
  have HB0 : Hid (∀ o, Below w.heap.size w (w.alloc o)) := Lib.hid fun o => (Below.refl _ w).alloc (Nat.le_refl _) o
  have HF : Hid (∀ w', Below w.heap.size w w' → TrueP w (.returned (.bool true)) w') := Lib.hid fun w' h => ⟨rfl, h⟩
  have hk1 : (k == 0) = false := by rw [beq_eq_false_iff_ne]; exact hk
  have hk2 : (k != 0) = true := by rw [bne_iff_ne]; exact hk
  clear hk
  generalize TrueP w = Po at *
  go_enter Try.func11, Try.ntmps11
  go_wp2
  exact HF.out _ (HB0.out _)
end Go.Proofs.Ytmnopohjnbpinab
