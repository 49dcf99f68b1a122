/-
  Helper: the pinned table of months, as the row lays it, and a date of three small numbers, by value, opened.
-/
import Derived.Test.YtmnopohjnbpinaaDoorCvLaws3
import Derived.Test.YtmnopohjnbpinaaDoorRows
import Derived.Lib.SmallJoins
import Derived.Lib.LaidTab
import Derived.OpenShut
import Derived.LaidOnce
import Derived.MakeChecks
namespace Go.Proofs.YtmnopohjnbpinaaDoor
open Go.ChangeShapes Go.WideShapes Go.ChangeAt Go.RowKit Go.Joins
set_option linter.unusedVariables false

set_option maxRecDepth 100000 in
theorem tabs_laid (W : World) (hL : laidMetH Tryd.prog Rows.civilDaysRow.laid W) : LTab W := by
  rw [MakeChecks.laidMetH_plain _ _ _ (by kernel_rfl)] at hL
  have h : Lib.TabIs Tryd.prog W "rosetta/civil.lengths" .i64 [0, 31, 28, 31, 30, 31, 30, 31, 31, 30, 31, 30, 31] :=
    Lib.tabIs_of_head (g := 0) (rest := []) (t := 41) (n := 13) (e := 3) (by kernel_rfl) (by kernel_rfl) Tryd.underlying41 Tryd.underlying3 (by kernel_rfl) (by kernel_rfl) hL
  have hc := fun i hi => h.cell (g := 0) (by kernel_rfl) i hi
  refine ⟨?_, fun m hm => ?_⟩
  · by_cases g : 0 < W.heap.size
    · exact g
    · have := hc 0 (by decide)
      rw [World.cell?] at this
      simp [Array.getElem?_eq_none (show W.heap.size ≤ 0 by omega)] at this
  · rw [hc m hm]
    have hk : m = 0 ∨ m = 1 ∨ m = 2 ∨ m = 3 ∨ m = 4 ∨ m = 5 ∨ m = 6 ∨ m = 7 ∨ m = 8 ∨ m = 9 ∨ m = 10 ∨ m = 11 ∨ m = 12 := by omega
    rcases hk with rfl | rfl | rfl | rfl | rfl | rfl | rfl | rfl | rfl | rfl | rfl | rfl | rfl <;> rfl

set_option maxRecDepth 100000 in
theorem arr_cells : Tryd.prog.cellsOf 35 = 3 := by kernel_rfl
set_option maxRecDepth 100000 in
theorem i16_cells : Tryd.prog.cellsOf 34 = 1 := by kernel_rfl
set_option maxRecDepth 100000 in
theorem arr_open {H : Type} {enc : TypeId × Value → H} {w : World} {base : Nat} {sp : Nat → Bool} {held : Bool} {r : Reach} {b0 : Nat} {v : Value} {d : DataW H} {p : List MemPlace}
    (hv : Value.okWide Tryd.prog w r b0 35 v) (h : DataW.Trod enc Tryd.prog w base sp held 35 v d p) :
    ∃ x y z : Int, v = .agg #[.int .i16 x, .int .i16 y, .int .i16 z] ∧ (-32768 ≤ x ∧ x ≤ 32767) ∧ (-32768 ≤ y ∧ y ≤ 32767) ∧ (-32768 ≤ z ∧ z ≤ 32767) := by
  have hv2 : ∃ cs : Array Value, v = .agg cs ∧ cs.size = Tryd.prog.cellsOf 35 := by
    simp only [Value.okWide, Tryd.underlying35] at hv
    obtain ⟨cs, h1, h2, _⟩ := hv
    exact ⟨cs, h1, h2⟩
  obtain ⟨cs, rfl, hsz⟩ := hv2
  obtain ⟨c0, c1, c2, rfl⟩ := array3 (hsz.trans arr_cells)
  obtain ⟨fuel, hf⟩ := h
  obtain ⟨xs, m, rfl, _, _, hl, hx⟩ := DataW.trod_array Tryd.underlying35 hf
  rw [i16_cells] at hx
  have a0 := hx 0 (by omega)
  have a1 := hx 1 (by omega)
  have a2 := hx 2 (by omega)
  simp [Value.cells] at a0 a1 a2
  rw [List.getElem?_eq_getElem (by omega)] at a0 a1 a2
  obtain ⟨x, e0, _, w0⟩ := DataW.trod_int Tryd.underlying34 a0
  obtain ⟨y, e1, _, w1⟩ := DataW.trod_int Tryd.underlying34 a1
  obtain ⟨z, e2, _, w2⟩ := DataW.trod_int Tryd.underlying34 a2
  simp at e0 e1 e2
  subst e0 e1 e2
  have wfb : ∀ k : Int, (Lit.int .i16 k).wf = true → -32768 ≤ k ∧ k ≤ 32767 := fun k hk => by
    simp only [Lit.wf, Bool.and_eq_true, decide_eq_true_eq] at hk
    exact hk
  exact ⟨x, y, z, rfl, wfb x w0, wfb y w1, wfb z w2⟩
end Go.Proofs.YtmnopohjnbpinaaDoor
