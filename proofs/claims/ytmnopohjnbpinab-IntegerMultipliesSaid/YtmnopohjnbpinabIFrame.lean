/-
  Helper: a description of a number, by value, opened.
-/
import Derived.Test.YtmnopohjnbpinabShelf
import Derived.Lib.SmallJoins
namespace Go.Proofs.Ytmnopohjnbpinab
open Go.ChangeShapes Go.WideShapes Go.ChangeAt Go.RowKit Go.Joins
set_option maxRecDepth 100000 in
theorem num_cells : Try.prog.cellsOf 36 = 3 := by kernel_rfl
set_option maxRecDepth 100000 in
theorem num_open {H : Type} {enc : TypeId × Value → H} {w : World} {base : Nat} {sp : Nat → Bool} {held : Bool} {r : Reach} {b0 : Nat} {v : Value} {d : DataW H} {p : List MemPlace}
    (hv : Value.okWide Try.prog w r b0 36 v) (h : DataW.Trod enc Try.prog w base sp held 36 v d p) :
    ∃ (ng : Bool) (D : ByteArray) (nn : Nat), v = .agg #[.bool ng, .string D, .int .u16 (nn : Int)] ∧ D.size ≤ maxLen ∧ nn < 65536 := by
  obtain ⟨c0, c1, c2, y0, y1, y2, m, rfl, rfl, rfl, hy0, hy1, hy2⟩ := open_agg3 Try.underlying36 (by kernel_rfl) num_cells hv h
  obtain ⟨b, e0, rfl⟩ := DataW.trod_bool Try.underlying4 hy0
  obtain ⟨s, e1, rfl, ws⟩ := DataW.trod_string Try.underlying9 hy1
  obtain ⟨f, e2, rfl, wf⟩ := DataW.trod_int Try.underlying34 hy2
  simp at e0 e1 e2
  subst e0 e1 e2
  have hf : (0 : Int) ≤ f ∧ f ≤ 65535 := by
    simp only [Lit.wf, Bool.and_eq_true, decide_eq_true_eq] at wf
    exact wf
  refine ⟨b, s, f.toNat, ?_, ws, ?_⟩
  · rw [Int.toNat_of_nonneg (by omega)]
  · omega
end Go.Proofs.Ytmnopohjnbpinab
