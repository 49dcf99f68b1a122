/-
  Helper: small facts on bytes, boxes and owned rows, used by all of this seat's walks.
-/
import Derived.WalkKit
import Derived.Lib.Bytealg
import Derived.Lib.Strings
namespace Go.Proofs.YtpebgggdpgppdaaDoor
open Go.RowKit

theorem byte_eq (a b : UInt8) (h : a = b) : ((a.toNat : Int) == (b.toNat : Int)) = true := by rw [h]; simp
theorem byte_ne (a b : UInt8) (h : a ≠ b) : ((a.toNat : Int) == (b.toNat : Int)) = false := by
  rw [beq_eq_false_iff_ne]; intro e; exact h (UInt8.toNat_inj.1 (by omega))
theorem get_some (s : ByteArray) (k : Nat) (c : UInt8) (h : k < s.size) (e : s[k] = c) : s.data.toList[k]? = some c := by
  rw [List.getElem?_eq_getElem (by simpa using h)]; exact congrArg some e
theorem get_none (s : ByteArray) (k : Nat) (c : UInt8) (h : k < s.size) (e : s[k] ≠ c) : s.data.toList[k]? ≠ some c := by
  rw [List.getElem?_eq_getElem (by simpa using h)]; exact fun g => e (Option.some.inj g)
theorem len_eq (s : ByteArray) : s.data.toList.length = s.size := by simp
theorem cell_one (w : World) (v : Value) (t : TypeId) : ∀ j u, ([v] : List Value)[j]? = some u → (w.alloc (.cells #[v] t)).cell? ((⟨w.heap.size, 0, none⟩ : Addr).add j) = some u := by
  intro j u h
  cases j with
  | zero => simp at h; subst h; rw [show (⟨w.heap.size, 0, none⟩ : Addr).add 0 = ⟨w.heap.size, 0, none⟩ from rfl, World.cell?_alloc_at _ _ _ _ rfl]; rfl
  | succ j => simp at h
theorem countByte_le (l : List UInt8) (c : UInt8) : Lib.countByte l c ≤ l.length := List.count_le_length
theorem extract_l (s : ByteArray) (a b : Nat) : (s.extract a b).data.toList = (s.data.toList.drop a).take (b - a) := by
  rw [Lib.extract_eq]
theorem World.ownsRow.ownBlock_le {w : World} {base : Nat} {e : TypeId} {size : Nat} {v : Value} {n : Nat} {xs : List Value} (h : w.ownsRow base e size v n xs) : ∀ b, v.ownBlock = some b → base ≤ b := by
  intro b hb
  rcases h.2 with ⟨rfl, _⟩ | ⟨g, cap, cur, rfl, hg, _⟩
  · simp [Value.ownBlock] at hb
  · simp [Value.ownBlock] at hb; omega
theorem World.ownsRow.isSlice {w : World} {base : Nat} {e : TypeId} {size : Nat} {v : Value} {n : Nat} {xs : List Value} (h : w.ownsRow base e size v n xs) : ∃ a cap, v = .slice a n cap := by
  rcases h.2 with ⟨rfl, rfl⟩ | ⟨g, cap, cur, rfl, _⟩
  · exact ⟨none, 0, rfl⟩
  · exact ⟨_, _, rfl⟩
/-- a struct's box of two cells, behind a call that laid what it laid behind it -/
theorem box2 {w w1 : World} {v0 v1 : Value} {t : TypeId} (h : Below (w.alloc (.cells #[v0, v1] t)).heap.size (w.alloc (.cells #[v0, v1] t)) w1) :
    w1.cell? ⟨w.heap.size, 0, none⟩ = some v0 ∧ w1.cell? ⟨w.heap.size, 1, none⟩ = some v1 ∧ Below w.heap.size w w1 ∧ w.heap.size < w1.heap.size := by
  refine ⟨?_, ?_, ((Below.refl _ w).alloc (Nat.le_refl _) _).trans (h.mono (by simp)), ?_⟩
  · rw [h.cell (by simp), World.cell?_alloc_at _ _ _ _ rfl]; rfl
  · rw [h.cell (by simp), World.cell?_alloc_at _ _ _ _ rfl]; rfl
  · have := h.size; simp at this; omega
end Go.Proofs.YtpebgggdpgppdaaDoor
