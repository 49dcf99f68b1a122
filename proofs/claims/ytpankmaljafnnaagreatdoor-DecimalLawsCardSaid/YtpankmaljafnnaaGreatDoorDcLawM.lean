/-
  Helper: DecimalLaws whatever the input; an argument that is an array of three strings.
-/
import Derived.Test.YtpankmaljafnnaaGreatDoorDcLawL
import Derived.Test.YtpankmaljafnnaaGreatDoorDcFrame
import Derived.ChangeArms
namespace Go.Proofs.YtpankmaljafnnaaGreatDoor
open Go.RowKit
set_option linter.unusedVariables false
set_option linter.unusedSimpArgs false

theorem array3 {α : Type} {cs : Array α} (h : cs.size = 3) : ∃ a b c, cs = #[a, b, c] := by
  match cs, h with
  | ⟨[a, b, c]⟩, _ => exact ⟨a, b, c, rfl⟩
set_option maxRecDepth 100000 in
theorem str_cells : Tryz.prog.cellsOf 55 = 3 := by kernel_rfl
set_option maxRecDepth 100000 in
theorem str_cell : Tryz.prog.cellsOf 9 = 1 := by kernel_rfl
set_option maxRecDepth 100000 in
theorem str3_open {H : Type} {enc : TypeId × Value → H} {w : World} {base : Nat} {sp : Nat → Bool} {held : Bool} {r : Reach} {b0 : Nat} {v : Value} {d : DataW H} {p : List MemPlace}
    (hv : Value.okWide Tryz.prog w r b0 55 v) (h : DataW.Trod enc Tryz.prog w base sp held 55 v d p) :
    ∃ x y z : ByteArray, v = .agg #[.string x, .string y, .string z] ∧ x.size ≤ maxLen ∧ y.size ≤ maxLen ∧ z.size ≤ maxLen := by
  have hv2 : ∃ cs : Array Value, v = .agg cs ∧ cs.size = Tryz.prog.cellsOf 55 := by
    simp only [Value.okWide, Tryz.underlying55] at hv
    obtain ⟨cs, h1, h2, _⟩ := hv
    exact ⟨cs, h1, h2⟩
  obtain ⟨cs, rfl, hsz⟩ := hv2
  obtain ⟨c0, c1, c2, rfl⟩ := array3 (hsz.trans str_cells)
  obtain ⟨fuel, hf⟩ := h
  obtain ⟨xs, m, rfl, _, _, hl, hx⟩ := DataW.trod_array Tryz.underlying55 hf
  rw [str_cell] at hx
  have a0 := hx 0 (by omega)
  have a1 := hx 1 (by omega)
  have a2 := hx 2 (by omega)
  simp [Value.cells] at a0 a1 a2
  rw [List.getElem?_eq_getElem (by omega)] at a0 a1 a2
  obtain ⟨x, e0, _, w0⟩ := DataW.trod_string Tryz.underlying9 a0
  obtain ⟨y, e1, _, w1⟩ := DataW.trod_string Tryz.underlying9 a1
  obtain ⟨z, e2, _, w2⟩ := DataW.trod_string Tryz.underlying9 a2
  simp at e0 e1 e2
  subst e0 e1 e2
  exact ⟨x, y, z, rfl, by assumption, by assumption, by assumption⟩
theorem walkDecimalLaws (W : World) (hT : Tabs W) (x y z : ByteArray) (hx : x.size ≤ maxLen) (hy : y.size ≤ maxLen) (hz : z.size ≤ maxLen) :
    Calls Tryz.prog 9 #[.agg #[.string x, .string y, .string z]] W (fun e W' => e = .returned (.bool true) ∧ Below W.heap.size W W') := by
  show Calls Tryz.prog 9 #[.agg #[.string x, .string y, .string z]] W (TrueP W)
  have HAw : Hid (Ret W 11 #[] (.bool true)) := Ret.of hT fun V hV => awake_any V hV
  -- what read answers of each text that is not too long
  have hR : ∀ i, ∃ ok a b, (tx3 x y z i).size ≤ 200 → ((ok = true → Dec (tx3 x y z i) a b) ∧ Ret W 18 #[.string (tx3 x y z i)] (.bool ok)) := fun i => by
    by_cases h : (tx3 x y z i).size ≤ 200
    · obtain ⟨ok, a, b, r1, r2, r3⟩ := read_gen (tx3 x y z i) (by omega)
      refine ⟨ok, a, b, fun _ => ⟨fun hok => ?_, Ret.of hT fun V hV => Valid_of _ ok a b r3 V hV⟩⟩
      obtain ⟨hC, hl⟩ := r1 hok
      exact ⟨hC, ba_ext _ _ (by rw [hl]; rfl)⟩
    · exact ⟨false, 0, 0, fun g => absurd g h⟩
  obtain ⟨ok, hok⟩ := Classical.axiomOfChoice hR
  obtain ⟨a, ha⟩ := Classical.axiomOfChoice hok
  obtain ⟨b, hb⟩ := Classical.axiomOfChoice ha
  refine laws_core W x y z hx hy hz ok HAw (fun i _ hs => (hb i hs).2) (fun hg => ?_)
  have g0 := hg 0 (by omega)
  have g1 := hg 1 (by omega)
  have g2 := hg 2 (by omega)
  exact laws_facts hT ((hb 0 g0.1).1 g0.2) ((hb 1 g1.1).1 g1.2) ((hb 2 g2.1).1 g2.2)
end Go.Proofs.YtpankmaljafnnaaGreatDoor
