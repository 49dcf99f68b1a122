/-
  Helper: equality of two arrays of three small numbers.
-/
import Derived.Test.YtmnopohjnbpinaaDoorCvLaws2
import Derived.Laws.StructEq
namespace Go.Proofs.YtmnopohjnbpinaaDoor
open Go.RowKit
set_option linter.unusedVariables false
set_option linter.unusedSimpArgs false

theorem i16_part (xs : Array Value) (i : Nat) (v : Int) (h : xs[i]? = some (.int .i16 v)) (w : World) : (part 34 xs i).run Tryd.prog w = .ok (.int .i16 v) w := by
  have hp := Tryd.underlying34
  unfold part
  simp [Sem.run_bind, h]
theorem eq_i16 (d : Nat) (a b : Int) (w : World) : (Op.equalIn (d + 1) 34 (.int .i16 a) (.int .i16 b)).run Tryd.prog w = .ok (a == b) w := by
  simp [Op.equalIn, Sem.run_bind, run_underlying Tryd.underlying34]
theorem eq_arr_of (d : Nat) (hd : ∀ a b w, (Op.equalIn d 34 (.int .i16 a) (.int .i16 b)).run Tryd.prog w = .ok (a == b) w) (x y z x' y' z' : Int) (w : World) :
    (Op.equalIn (d + 1) 35 (.agg #[.int .i16 x, .int .i16 y, .int .i16 z]) (.agg #[.int .i16 x', .int .i16 y', .int .i16 z'])).run Tryd.prog w = .ok (x == x' && (y == y' && z == z')) w := by
  have hz : (sizeOf 34).run Tryd.prog w = .ok 1 w := by simp
  simp only [Op.equalIn, Sem.run_bind, run_underlying Tryd.underlying35, Result.andThen_ok, hz]
  have p0 := fun w => i16_part #[.int .i16 x, .int .i16 y, .int .i16 z] 0 x rfl w
  have p1 := fun w => i16_part #[.int .i16 x, .int .i16 y, .int .i16 z] 1 y rfl w
  have p2 := fun w => i16_part #[.int .i16 x, .int .i16 y, .int .i16 z] 2 z rfl w
  have q0 := fun w => i16_part #[.int .i16 x', .int .i16 y', .int .i16 z'] 0 x' rfl w
  have q1 := fun w => i16_part #[.int .i16 x', .int .i16 y', .int .i16 z'] 1 y' rfl w
  have q2 := fun w => i16_part #[.int .i16 x', .int .i16 y', .int .i16 z'] 2 z' rfl w
  have h0 := hd x x'
  have h1 := hd y y'
  have h2 := hd z z'
  clear hd
  generalize (x == x') = b0 at *
  generalize (y == y') = b1 at *
  generalize (z == z') = b2 at *
  generalize (#[.int .i16 x, .int .i16 y, .int .i16 z] : Array Value) = xs at *
  generalize (#[.int .i16 x', .int .i16 y', .int .i16 z'] : Array Value) = ys at *
  simp only [Std.Legacy.Range.forIn_eq_forIn_range', Std.Legacy.Range.size, Nat.sub_zero, Nat.add_sub_cancel, Nat.div_one, List.range'_succ, List.range'_zero, List.forIn_cons, List.forIn_nil, Nat.mul_one, Nat.zero_add, Nat.reduceAdd]
  cases b0 <;> cases b1 <;> cases b2 <;> simp [p0, q0, p1, q1, p2, q2, h0, h1, h2, Sem.run_bind]
theorem eq_arr (x y z x' y' z' : Int) (w : World) :
    (Op.equalIn 10000 35 (.agg #[.int .i16 x, .int .i16 y, .int .i16 z]) (.agg #[.int .i16 x', .int .i16 y', .int .i16 z'])).run Tryd.prog w = .ok (x == x' && (y == y' && z == z')) w :=
  eq_arr_of 9999 (fun a b w => eq_i16 9998 a b w) x y z x' y' z' w
end Go.Proofs.YtmnopohjnbpinaaDoor
