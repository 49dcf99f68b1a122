/-
  Helper: the walk of the examples that every statement about integers checks.
-/
import Derived.Test.YtmnopohjnbpinabIApi
import Derived.Test.YtmnopohjnbpinabIParse
import Derived.Test.YtmnopohjnbpinabIMisc
namespace Go.Proofs.Ytmnopohjnbpinab
open Go.RowKit
set_option linter.unusedVariables false

theorem ex_parse1 (w : World) : Calls Try.prog 9 #[.string ⟨#[45, 48, 120, 49]⟩, .int .i64 16] w (StrE 3 w) :=
  (Parse_go ⟨#[45, 48, 120, 49]⟩ 16 rfl (by omega) (by omega) w (by decide)).mono fun e w' h => h.1 (.inr ⟨1, by decide, by decide⟩)
theorem ex_parse2 (w : World) : Calls Try.prog 9 #[.string ⟨#[43, 48, 48, 102, 102]⟩, .int .i64 16] w fun e w' => e = .returned (.tuple #[.string ⟨#[50, 53, 53]⟩, .int .i64 0]) ∧ Below w.heap.size w w' :=
  (Parse_go ⟨#[43, 48, 48, 102, 102]⟩ 16 rfl (by omega) (by omega) w (by decide)).mono fun e w' h => by
    have h2 := (h.2 ⟨by decide, by decide⟩).1 (by decide +kernel)
    exact ⟨h2.1.trans (by rw [show TB (zi (pneg [43, 48, 48, 102, 102]) (vm 16 (pdig (prest [43, 48, 48, 102, 102])))) = ⟨#[50, 53, 53]⟩ by decide +kernel]), h2.2⟩
theorem ex_div (w : World) : Calls Try.prog 27 #[.string ⟨#[45, 55]⟩, .string ⟨#[50]⟩] w fun e w' => e = .returned (.tuple #[.string ⟨#[45, 52]⟩, .string ⟨#[49]⟩, .int .i64 0]) ∧ Below w.heap.size w w' :=
  (DivMod_yes (-7) 2 (by unfold Sh; decide) (by unfold Sh; decide) (by decide) ⟨#[45, 55]⟩ ⟨#[50]⟩ (by decide) (by decide) w).mono fun e w' h => by
    exact ⟨h.1.trans (by rw [show TB (qI (-7) 2) = ⟨#[45, 52]⟩ by decide +kernel, show TB (rI (-7) 2) = ⟨#[49]⟩ by decide +kernel]), h.2⟩
theorem ex_fits1 (w : World) : Calls Try.prog 32 #[.string ⟨#[45, 49, 50, 56]⟩, .int .i64 8] w fun e w' => e = .returned (.bool true) ∧ Below w.heap.size w w' :=
  (Fits_yes (-128) (by unfold Sh; decide +kernel) ⟨#[45, 49, 50, 56]⟩ (by decide +kernel) 8 w).mono fun e w' h => ⟨h.1.trans (by rw [show decide ((bl (fitN (-128)) : Int) < 8) = true by decide +kernel]), h.2⟩
theorem ex_fits2 (w : World) : Calls Try.prog 32 #[.string ⟨#[49, 50, 56]⟩, .int .i64 8] w fun e w' => e = .returned (.bool false) ∧ Below w.heap.size w w' :=
  (Fits_yes 128 (by unfold Sh; decide +kernel) ⟨#[49, 50, 56]⟩ (by decide +kernel) 8 w).mono fun e w' h => ⟨h.1.trans (by rw [show decide ((bl (fitN 128) : Int) < 8) = false by decide +kernel]), h.2⟩
theorem ex_mag (w : World) : Calls Try.prog 30 #[.string ⟨#[45, 50, 53, 54]⟩] w fun e w' => e = .returned (.string ⟨#[1, 0]⟩) ∧ Below w.heap.size w w' :=
  (Magnitude_yes (-256) (by unfold Sh; decide +kernel) ⟨#[45, 50, 53, 54]⟩ (by decide +kernel) w).mono fun e w' h => ⟨h.1.trans (by rw [show (⟨((E 256 (-256 : Int).natAbs).reverse).toArray⟩ : ByteArray) = ⟨#[1, 0]⟩ by decide +kernel]), h.2⟩

set_option maxRecDepth 100000 in
set_option maxHeartbeats 2000000 in
theorem awake_any (w : World) : Calls Try.prog 8 #[] w fun e w' => e = .returned (.bool true) ∧ Below w.heap.size w w' := by
  go_enter Try.func8, Try.ntmps8
  go_wp2_with fail
  refine (ex_parse1 _).mono ?_
  rintro e w1 ⟨rfl, h1⟩
  go_wp2_with fail
  refine (ex_parse2 _).mono ?_
  rintro e w2 ⟨rfl, h2⟩
  go_wp2_with fail
  refine (ex_div _).mono ?_
  rintro e w3 ⟨rfl, h3⟩
  go_wp2_with fail
  refine (ex_fits1 _).mono ?_
  rintro e w4 ⟨rfl, h4⟩
  go_wp2_with fail
  refine (ex_fits2 _).mono ?_
  rintro e w5 ⟨rfl, h5⟩
  go_wp2_with fail
  refine (ex_mag _).mono ?_
  rintro e w6 ⟨rfl, h6⟩
  have hb := (((((h1.trans (h2.mono h1.size)).trans (h3.mono (h1.trans (h2.mono h1.size)).size)).trans (h4.mono (Nat.le_trans h1.size (Nat.le_trans h2.size h3.size)))).trans (h5.mono (Nat.le_trans h1.size (Nat.le_trans h2.size (Nat.le_trans h3.size h4.size))))).trans (h6.mono (Nat.le_trans h1.size (Nat.le_trans h2.size (Nat.le_trans h3.size (Nat.le_trans h4.size h5.size))))))
  have hbh := Lib.hid hb
  clear h1 h2 h3 h4 h5 h6 hb
  go_wp2
  go_ret
  exact ⟨rfl, hbh.out⟩
end Go.Proofs.Ytmnopohjnbpinab
