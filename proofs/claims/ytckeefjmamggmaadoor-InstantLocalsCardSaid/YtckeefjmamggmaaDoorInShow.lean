/-
  Helper: the reference's Show, of a text with a date, a time and a zone.
-/
import Derived.Test.YtckeefjmamggmaaDoorInRef2
namespace Go.Proofs.YtckeefjmamggmaaDoor
open Go.RowKit
set_option linter.unusedVariables false

theorem box12 (w1 : World) (y m d h i k na : Nat) (of : Int) (lt : Bool) : ∃ wa n0, w1.alloc (.cells #[.bool true, .bool true, .bool true, .int .i64 y, .int .i64 m, .int .i64 d, .int .i64 h, .int .i64 i, .int .i64 k, .int .i64 na, .int .i64 of, .bool lt] 30) = wa ∧ w1.heap.size = n0 ∧ wa.heap.size = n0 + 1 ∧ (∀ B w0, B ≤ n0 → Below B w0 w1 → Below B w0 wa) ∧ (∀ W, Below (n0 + 1) wa W → W.cell? ⟨n0, 0, none⟩ = some (.bool true) ∧ W.cell? ⟨n0, 1, none⟩ = some (.bool true) ∧ W.cell? ⟨n0, 2, none⟩ = some (.bool true) ∧ W.cell? ⟨n0, 3, none⟩ = some (.int .i64 y) ∧ W.cell? ⟨n0, 4, none⟩ = some (.int .i64 m) ∧ W.cell? ⟨n0, 5, none⟩ = some (.int .i64 d) ∧ W.cell? ⟨n0, 6, none⟩ = some (.int .i64 h) ∧ W.cell? ⟨n0, 7, none⟩ = some (.int .i64 i) ∧ W.cell? ⟨n0, 8, none⟩ = some (.int .i64 k) ∧ W.cell? ⟨n0, 9, none⟩ = some (.int .i64 na) ∧ W.cell? ⟨n0, 10, none⟩ = some (.int .i64 of) ∧ W.cell? ⟨n0, 11, none⟩ = some (.bool lt)) := by
  refine ⟨_, _, rfl, rfl, by simp, fun B w0 h1 h2 => h2.alloc h1 _, fun W hh => ?_⟩
  have hb := (Blk.new w1 30 [.bool true, .bool true, .bool true, .int .i64 y, .int .i64 m, .int .i64 d, .int .i64 h, .int .i64 i, .int .i64 k, .int .i64 na, .int .i64 of, .bool lt]).go hh (Nat.lt_succ_self _)
  exact ⟨hb.cell 0 _ rfl, hb.cell 1 _ rfl, hb.cell 2 _ rfl, hb.cell 3 _ rfl, hb.cell 4 _ rfl, hb.cell 5 _ rfl, hb.cell 6 _ rfl, hb.cell 7 _ rfl, hb.cell 8 _ rfl, hb.cell 9 _ rfl, hb.cell 10 _ rfl, hb.cell 11 _ rfl⟩
theorem show_eq (y m d h i k na : Nat) (hna : na ≠ 0) : mkB (padL y 4) ++ ⟨#[45]⟩ ++ mkB (padL m 2) ++ ⟨#[45]⟩ ++ mkB (padL d 2) ++ ⟨#[84]⟩ ++ mkB (padL h 2) ++ ⟨#[58]⟩ ++ mkB (padL i 2) ++ ⟨#[58]⟩ ++ mkB (padL k 2) ++ ⟨#[46]⟩ ++ mkB (Lib.trimRightB (padL na 9) 48) ++ ⟨#[90]⟩ = mkB (canL 3 [y, m, d, h, i, k, 0, 0] na ++ [90]) := by
  have hc : canL 3 [y, m, d, h, i, k, 0, 0] na ++ [90] = Lib.join [padL y 4, padL m 2, padL d 2] [45] ++ ([84] ++ (Lib.join [padL h 2, padL i 2, padL k 2] [58] ++ (frL na ++ [90]))) := by
    have : canL 3 [y, m, d, h, i, k, 0, 0] na = Lib.join [padL y 4, padL m 2, padL d 2] [45] ++ [84] ++ Lib.join [padL h 2, padL i 2, padL k 2] [58] ++ frL na := rfl
    rw [this]; simp
  have hf : frL na = 46 :: Lib.trimRightB (padL na 9) 48 := if_neg hna
  rw [hc, hf, join3, join3]
  apply ByteArray.ext
  apply Array.toList_inj.1
  simp [mkB]
theorem show_eq0 (y m d h i k : Nat) : mkB (padL y 4) ++ ⟨#[45]⟩ ++ mkB (padL m 2) ++ ⟨#[45]⟩ ++ mkB (padL d 2) ++ ⟨#[84]⟩ ++ mkB (padL h 2) ++ ⟨#[58]⟩ ++ mkB (padL i 2) ++ ⟨#[58]⟩ ++ mkB (padL k 2) ++ ⟨#[90]⟩ = mkB (canL 3 [y, m, d, h, i, k, 0, 0] 0 ++ [90]) := by
  have hc : canL 3 [y, m, d, h, i, k, 0, 0] 0 ++ [90] = Lib.join [padL y 4, padL m 2, padL d 2] [45] ++ ([84] ++ (Lib.join [padL h 2, padL i 2, padL k 2] [58] ++ [90])) := by
    have : canL 3 [y, m, d, h, i, k, 0, 0] 0 = Lib.join [padL y 4, padL m 2, padL d 2] [45] ++ [84] ++ Lib.join [padL h 2, padL i 2, padL k 2] [58] ++ [] := rfl
    rw [this]; simp
  rw [hc, join3, join3]
  apply ByteArray.ext
  apply Array.toList_inj.1
  simp [mkB]
def PadC (x wd : Nat) (t : ByteArray) : Prop := ∀ W, Calls Tryd.prog 33 #[.int .i64 x, .int .i64 wd] W fun e w' => e = .returned (.string t) ∧ Below W.heap.size W w'
theorem pad_c (x wd : Nat) (hw : 0 < wd) (hw2 : wd ≤ 9) (hx : x < 10 ^ wd) : PadC x wd (mkB (padL x wd)) ∧ (mkB (padL x wd)).size = wd := by
  have h9 : (10 : Nat) ^ wd ≤ 10 ^ 9 := Nat.pow_le_pow_right (by omega) hw2
  refine ⟨fun W => ?_, ?_⟩
  · have := rpad_any x wd (by omega) (by omega) W
    rw [rp_pad wd x hw hx] at this
    exact this
  · rw [mkB_size]; exact (pad_is x wd hw hx).1
end Go.Proofs.YtckeefjmamggmaaDoor
