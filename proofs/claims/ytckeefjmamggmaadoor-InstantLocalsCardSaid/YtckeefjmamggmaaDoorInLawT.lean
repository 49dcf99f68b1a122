/-
  Helper: the walk of the statement InstantShifts.
-/
import Derived.Test.YtckeefjmamggmaaDoorInForm2
import Derived.Laws.BytesString
namespace Go.Proofs.YtckeefjmamggmaaDoor
open Go.RowKit
set_option linter.unusedVariables false

def D8 (k : Nat) : UInt8 := UInt8.ofNat (48 + k)
def zon (h m : Nat) : List UInt8 := [D8 (h / 10), D8 (h % 10)] ++ 58 :: [D8 (m / 10), D8 (m % 10)]
theorem D8_nat (k : Nat) (h : k < 10) : ((D8 k).toNat : Int) = 48 + (k : Int) := by
  have h2 : k = 0 ∨ k = 1 ∨ k = 2 ∨ k = 3 ∨ k = 4 ∨ k = 5 ∨ k = 6 ∨ k = 7 ∨ k = 8 ∨ k = 9 := by omega
  rcases h2 with rfl | rfl | rfl | rfl | rfl | rfl | rfl | rfl | rfl | rfl <;> decide
theorem pad2 (h : Nat) (hh : h ≤ 99) : IsPad [D8 (h / 10), D8 (h % 10)] 2 h := by
  have a := dgt (h / 10) (by omega)
  have b := dgt (h % 10) (by omega)
  refine ⟨rfl, fun c hc => ?_, ?_⟩
  · simp only [List.mem_cons, List.not_mem_nil, or_false] at hc
    rcases hc with rfl | rfl
    · exact a.1
    · exact b.1
  · show 10 * (10 * 0 + ((UInt8.ofNat (48 + h / 10)).toNat - 48)) + ((UInt8.ofNat (48 + h % 10)).toNat - 48) = h
    rw [a.2, b.2]; omega
theorem conv5 (w1 : World) (h m : Nat) (hh : h ≤ 99) (hm : m ≤ 99) : (convert 71 9 (.slice (some ⟨w1.heap.size, 0, none⟩) 5 5)).run Tryd.prog (w1.alloc (.cells #[.int .u8 (48 + (h : Int) / 10), .int .u8 (48 + (h : Int) % 10), .int .u8 58, .int .u8 (48 + (m : Int) / 10), .int .u8 (48 + (m : Int) % 10)] 5)) =
    .ok (.string ⟨(zon h m).toArray⟩) (w1.alloc (.cells #[.int .u8 (48 + (h : Int) / 10), .int .u8 (48 + (h : Int) % 10), .int .u8 58, .int .u8 (48 + (m : Int) / 10), .int .u8 (48 + (m : Int) % 10)] 5)) := by
  refine run_convert_bytes_back _ _ _ 5 _ 5 (zon h m) Tryd.underlying71 Tryd.underlying5 Tryd.underlying9 ?_
  intro j hj
  have hb := Blk.new w1 5 [.int .u8 (48 + (h : Int) / 10), .int .u8 (48 + (h : Int) % 10), .int .u8 58, .int .u8 (48 + (m : Int) / 10), .int .u8 (48 + (m : Int) % 10)]
  have e1 := D8_nat (h / 10) (by omega)
  have e2 := D8_nat (h % 10) (by omega)
  have e3 := D8_nat (m / 10) (by omega)
  have e4 := D8_nat (m % 10) (by omega)
  have hj5 : j < 5 := hj
  have hj2 : j = 0 ∨ j = 1 ∨ j = 2 ∨ j = 3 ∨ j = 4 := by omega
  rcases hj2 with rfl | rfl | rfl | rfl | rfl
  · exact (hb.cell 0 _ rfl).trans (congrArg (fun x => some (Value.int .u8 x)) (by show (48 + (h : Int) / 10) = ((D8 (h / 10)).toNat : Int); omega))
  · exact (hb.cell 1 _ rfl).trans (congrArg (fun x => some (Value.int .u8 x)) (by show (48 + (h : Int) % 10) = ((D8 (h % 10)).toNat : Int); omega))
  · exact hb.cell 2 _ rfl
  · exact (hb.cell 3 _ rfl).trans (congrArg (fun x => some (Value.int .u8 x)) (by show (48 + (m : Int) / 10) = ((D8 (m / 10)).toNat : Int); omega))
  · exact (hb.cell 4 _ rfl).trans (congrArg (fun x => some (Value.int .u8 x)) (by show (48 + (m : Int) % 10) = ((D8 (m % 10)).toNat : Int); omega))
theorem of_zero (n : Int) (k : Nat) (t : ByteArray) (en : Int) (h : OfR n k t en) (hk : k ≤ 999999999) (h1 : -62167219200 ≤ n) (h2 : n ≤ 253402300799) : en = 0 := by
  unfold OfR at h
  rw [if_neg (by omega), if_neg (by omega)] at h
  obtain ⟨_, _, _, _, _, _, _, _, rfl⟩ := h
  rfl
theorem sec_of (n : Int) (k : Nat) (u : ByteArray) (h : OfR n k u 0) : secF u = (n, k, 0) ∧ u.size ≤ 6000 := by
  obtain ⟨b1, _, b3⟩ := of_back n k u h
  refine ⟨?_, b3⟩
  unfold secF; rw [b1]; unfold secG
  rw [if_pos ⟨rfl, h⟩]
theorem insR_e (en : Int) (he : en ≠ 0) (t : ByteArray) (e : Int) (h : InsR (0, 0, en) t e) : t = ⟨#[]⟩ ∧ e = en := by
  unfold InsR at h; rw [if_neg he] at h; exact h
theorem insR_o (B : Int) (na : Nat) (t : ByteArray) (e : Int) (h : InsR (B, na, 0) t e) : OfR B na t e := by
  unfold InsR at h; rw [if_pos rfl] at h; exact h
theorem u8b {k : Int} (hk : (Lit.int .u8 k).wf = true) : 0 ≤ k ∧ k ≤ 255 := by
  simp only [Lit.wf, Bool.and_eq_true, decide_eq_true_eq] at hk
  exact hk
end Go.Proofs.YtckeefjmamggmaaDoor
