/-
  Helper: the walks of a Feeder's End and of hold.
-/
import Derived.Test.YtpebgggdpgppdaaDoorCpCheck
import Derived.Lib.LazyBuf
namespace Go.Proofs.YtpebgggdpgppdaaDoor
open Go.RowKit
set_option linter.unusedVariables false

/-- the k-th of the bytes that a feeder holds; 0 behind them -/
def hb (l : List Nat) (k : Nat) : Int := ((l.getD k 0 : Nat) : Int)
/-- a feeder that holds the bytes l: a value -/
def fv (l : List Nat) : Value := .agg #[.int .u8 (hb l 0), .int .u8 (hb l 1), .int .u8 (hb l 2), .int .i64 l.length]

theorem zero41 : ∀ w, (zeroValue 26).run Tryd.prog w = .ok (fv []) w := fun w => Tryd.zeroValue26 w

set_option maxHeartbeats 400000 in
theorem end_any_f (l : List Nat) (hl : l.length ≤ 3) (w : World) :
    Calls Tryd.prog 7 #[fv l] w fun e w' => e = .returned (.int .i64 (if l.length = 0 then 0 else 11)) ∧ Below w.heap.size w w' := by
  unfold fv
  generalize l.length = n at *
  generalize hb l 0 = b0 at *
  generalize hb l 1 = b1 at *
  generalize hb l 2 = b2 at *
  by_cases h : n = 0
  · subst h
    go_enter Tryd.func7, Tryd.ntmps7
    go_wp2
    go_ret
    exact ⟨rfl, (Below.refl _ w).alloc (Nat.le_refl _) _⟩
  · rw [if_neg h]
    go_enter Tryd.func7, Tryd.ntmps7
    go_wp2
    go_ret
    exact ⟨rfl, (Below.refl _ w).alloc (Nat.le_refl _) _⟩

set_option maxRecDepth 100000 in
set_option maxHeartbeats 1000000 in
theorem hold_1 (a : UInt8) (w : World) :
    Calls Tryd.prog 15 #[.string ⟨#[a]⟩] w fun e w' => e = .returned (.agg #[.int .u8 (a.toNat : Int), .int .u8 0, .int .u8 0, .int .i64 1]) ∧ Below w.heap.size w w' := by
  have hcopy : (Builtin.copy_ #[42, 9] 3 #[.slice (some ⟨w.heap.size + 1, 0, none⟩) 3 3, .string ⟨#[a]⟩]).run Tryd.prog ((w.alloc (.cells #[.int .u8 0, .int .u8 0, .int .u8 0, .int .i64 0] 26)).alloc (.cells #[.int .u8 0, .int .u8 0, .int .u8 0, .int .i64 0] 26)) = .ok (.int .i64 1) (((w.alloc (.cells #[.int .u8 0, .int .u8 0, .int .u8 0, .int .i64 0] 26)).alloc (.cells #[.int .u8 0, .int .u8 0, .int .u8 0, .int .i64 0] 26)).setCell ⟨w.heap.size + 1, 0, none⟩ (.int .u8 (a.toNat : Int))) := by
    have h := run_copy_string (P := Tryd.prog) ((w.alloc (.cells #[.int .u8 0, .int .u8 0, .int .u8 0, .int .i64 0] 26)).alloc (.cells #[.int .u8 0, .int .u8 0, .int .u8 0, .int .i64 0] 26)) 42 9 3 5 (w.heap.size + 1) 0 3 3 ⟨#[a]⟩ Tryd.underlying42 Tryd.sizeOf5 (by show 1 ≤ 3; omega)
      (fun j hj => by
        have hj3 : j < 4 := by have : j < 1 := hj; omega
        rw [World.cell?_alloc_at _ _ _ _ (by simp)]
        match j, hj3 with
        | 0, _ => rfl
        | 1, _ => rfl
        | 2, _ => rfl
        | 3, _ => rfl)
      (fun j hj => World.frozen?_alloc_at _ _ _ _ (by simp))
    exact h
  go_enter Tryd.func15, Tryd.ntmps15
  go_wp2
  refine bodyPost_ret (v := .agg #[.int .u8 (a.toNat : Int), .int .u8 0, .int .u8 0, .int .i64 1]) (by simp [results, Tryd.results15, go_sem]) rfl ⟨rfl, ?_⟩
  exact ((Below.refl _ w).alloc (Nat.le_refl _) _).alloc (by simp) _
set_option maxRecDepth 100000 in
set_option maxHeartbeats 1000000 in
theorem hold_2 (a b : UInt8) (w : World) :
    Calls Tryd.prog 15 #[.string ⟨#[a, b]⟩] w fun e w' => e = .returned (.agg #[.int .u8 (a.toNat : Int), .int .u8 (b.toNat : Int), .int .u8 0, .int .i64 2]) ∧ Below w.heap.size w w' := by
  have hcopy : (Builtin.copy_ #[42, 9] 3 #[.slice (some ⟨w.heap.size + 1, 0, none⟩) 3 3, .string ⟨#[a, b]⟩]).run Tryd.prog ((w.alloc (.cells #[.int .u8 0, .int .u8 0, .int .u8 0, .int .i64 0] 26)).alloc (.cells #[.int .u8 0, .int .u8 0, .int .u8 0, .int .i64 0] 26)) = .ok (.int .i64 2) ((((w.alloc (.cells #[.int .u8 0, .int .u8 0, .int .u8 0, .int .i64 0] 26)).alloc (.cells #[.int .u8 0, .int .u8 0, .int .u8 0, .int .i64 0] 26)).setCell ⟨w.heap.size + 1, 0, none⟩ (.int .u8 (a.toNat : Int))).setCell ⟨w.heap.size + 1, 1, none⟩ (.int .u8 (b.toNat : Int))) := by
    have h := run_copy_string (P := Tryd.prog) ((w.alloc (.cells #[.int .u8 0, .int .u8 0, .int .u8 0, .int .i64 0] 26)).alloc (.cells #[.int .u8 0, .int .u8 0, .int .u8 0, .int .i64 0] 26)) 42 9 3 5 (w.heap.size + 1) 0 3 3 ⟨#[a, b]⟩ Tryd.underlying42 Tryd.sizeOf5 (by show 2 ≤ 3; omega)
      (fun j hj => by
        have hj3 : j < 4 := by have : j < 2 := hj; omega
        rw [World.cell?_alloc_at _ _ _ _ (by simp)]
        match j, hj3 with
        | 0, _ => rfl
        | 1, _ => rfl
        | 2, _ => rfl
        | 3, _ => rfl)
      (fun j hj => World.frozen?_alloc_at _ _ _ _ (by simp))
    exact h
  go_enter Tryd.func15, Tryd.ntmps15
  go_wp2
  refine bodyPost_ret (v := .agg #[.int .u8 (a.toNat : Int), .int .u8 (b.toNat : Int), .int .u8 0, .int .i64 2]) (by simp [results, Tryd.results15, go_sem]) rfl ⟨rfl, ?_⟩
  exact ((Below.refl _ w).alloc (Nat.le_refl _) _).alloc (by simp) _
set_option maxRecDepth 100000 in
set_option maxHeartbeats 1000000 in
theorem hold_3 (a b c : UInt8) (w : World) :
    Calls Tryd.prog 15 #[.string ⟨#[a, b, c]⟩] w fun e w' => e = .returned (.agg #[.int .u8 (a.toNat : Int), .int .u8 (b.toNat : Int), .int .u8 (c.toNat : Int), .int .i64 3]) ∧ Below w.heap.size w w' := by
  have hcopy : (Builtin.copy_ #[42, 9] 3 #[.slice (some ⟨w.heap.size + 1, 0, none⟩) 3 3, .string ⟨#[a, b, c]⟩]).run Tryd.prog ((w.alloc (.cells #[.int .u8 0, .int .u8 0, .int .u8 0, .int .i64 0] 26)).alloc (.cells #[.int .u8 0, .int .u8 0, .int .u8 0, .int .i64 0] 26)) = .ok (.int .i64 3) (((((w.alloc (.cells #[.int .u8 0, .int .u8 0, .int .u8 0, .int .i64 0] 26)).alloc (.cells #[.int .u8 0, .int .u8 0, .int .u8 0, .int .i64 0] 26)).setCell ⟨w.heap.size + 1, 0, none⟩ (.int .u8 (a.toNat : Int))).setCell ⟨w.heap.size + 1, 1, none⟩ (.int .u8 (b.toNat : Int))).setCell ⟨w.heap.size + 1, 2, none⟩ (.int .u8 (c.toNat : Int))) := by
    have h := run_copy_string (P := Tryd.prog) ((w.alloc (.cells #[.int .u8 0, .int .u8 0, .int .u8 0, .int .i64 0] 26)).alloc (.cells #[.int .u8 0, .int .u8 0, .int .u8 0, .int .i64 0] 26)) 42 9 3 5 (w.heap.size + 1) 0 3 3 ⟨#[a, b, c]⟩ Tryd.underlying42 Tryd.sizeOf5 (by show 3 ≤ 3; omega)
      (fun j hj => by
        have hj3 : j < 4 := by have : j < 3 := hj; omega
        rw [World.cell?_alloc_at _ _ _ _ (by simp)]
        match j, hj3 with
        | 0, _ => rfl
        | 1, _ => rfl
        | 2, _ => rfl
        | 3, _ => rfl)
      (fun j hj => World.frozen?_alloc_at _ _ _ _ (by simp))
    exact h
  go_enter Tryd.func15, Tryd.ntmps15
  go_wp2
  refine bodyPost_ret (v := .agg #[.int .u8 (a.toNat : Int), .int .u8 (b.toNat : Int), .int .u8 (c.toNat : Int), .int .i64 3]) (by simp [results, Tryd.results15, go_sem]) rfl ⟨rfl, ?_⟩
  exact ((Below.refl _ w).alloc (Nat.le_refl _) _).alloc (by simp) _

/-- hold, at an incomplete sequence -/
theorem hold_any (s : ByteArray) (h0 : 1 ≤ s.size) (h3 : s.size ≤ 3) (w : World) :
    Calls Tryd.prog 15 #[.string s] w fun e w' => e = .returned (fv (bytesFrom s 0)) ∧ Below w.heap.size w w' := by
  obtain ⟨⟨l⟩⟩ := s
  match l with
  | [a] => exact hold_1 a w
  | [a, b] => exact hold_2 a b w
  | [a, b, c] => exact hold_3 a b c w
  | [] => exact absurd h0 (by decide)
  | _ :: _ :: _ :: _ :: _ =>
    have : ∀ (l : List UInt8), (⟨⟨l⟩⟩ : ByteArray).size = l.length := fun l => rfl
    rw [this] at h3
    simp at h3
end Go.Proofs.YtpebgggdpgppdaaDoor
