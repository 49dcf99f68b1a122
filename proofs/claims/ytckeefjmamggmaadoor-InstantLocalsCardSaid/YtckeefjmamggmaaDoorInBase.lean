/-
  Helper: boxes in memory; the walks of width, number and the scanner's functions.
-/
import Derived.Test.YtckeefjmamggmaaDoorShelf
import Derived.WalkKit
import Derived.OwnWalk
import Derived.Laws.OwnMore
import Derived.Laws.Rows
import Derived.Laws.Tables
import Derived.Lib.Hide
import Derived.Lib.Strings
import Derived.Lib.IndexBytes
import Derived.BigQuiet
import Derived.Deep.QuietTactic
import Derived.Deep.LoopGhost
import Derived.IntWalk
import Derived.Outline
namespace Go.Proofs.YtckeefjmamggmaaDoor
open Go.RowKit
set_option linter.unusedVariables false

/-- a whole block -/
def Blk (w : World) (g t : Nat) (cs : List Value) : Prop := w.heap[g]? = some (.cells cs.toArray t (0, 0))
theorem Blk.lt {w : World} {g t : Nat} {cs : List Value} (h : Blk w g t cs) : g < w.heap.size := (Array.getElem?_eq_some_iff.1 h).1
theorem Blk.cell {w : World} {g t : Nat} {cs : List Value} (h : Blk w g t cs) (i : Nat) (v : Value) (hv : cs[i]? = some v) : w.cell? ⟨g, i, none⟩ = some v := by
  unfold Blk at h
  rw [cell_of_row w g i _ t (0, 0) h]
  simpa using hv
theorem Blk.free {w : World} {g t : Nat} {cs : List Value} (h : Blk w g t cs) (i : Nat) : w.frozen? ⟨g, i, none⟩ = false := by
  unfold Blk at h
  simp [World.frozen?, h]
theorem Blk.set {w : World} {g t : Nat} {cs : List Value} (h : Blk w g t cs) (i : Nat) (v : Value) : Blk (w.setCell ⟨g, i, none⟩ v) g t (cs.set i v) := by
  unfold Blk at h ⊢
  simp only [World.setCell, Array.getElem?_modify, if_true, h]
  simp
theorem Blk.far {w : World} {g m t : Nat} {cs : List Value} (h : Blk w g t cs) (hn : g ≠ m) (o : Nat) (v : Value) : Blk (w.setCell ⟨m, o, none⟩ v) g t cs := by
  unfold Blk at *
  rw [Below.heap_setCell _ _ _ _ hn]; exact h
theorem Blk.go {w w' : World} {B g t : Nat} {cs : List Value} (h : Blk w g t cs) (hb : Below B w w') (hB : g < B) : Blk w' g t cs := (hb.block g hB).trans h
theorem Blk.drew {w : World} {g t : Nat} {cs : List Value} (h : Blk w g t cs) (k : Nat) : Blk (w.drewN k) g t cs := h
theorem Blk.new (w : World) (t : Nat) (cs : List Value) : Blk (w.alloc (.cells cs.toArray t)) w.heap.size t cs := heap_alloc_new w _
theorem Below.drewN {B : Nat} {a w : World} (h : Below B a w) : ∀ n, Below B a (w.drewN n) := fun n => ⟨h.os, h.tape, h.output, h.size, h.block⟩
theorem bt {w a b : World} (h : Hid (Below w.heap.size w a)) (h2 : Below a.heap.size a b) : Hid (Below w.heap.size w b) := h.out.trans (h2.mono h.out.size)

/-- the width of a field -/
def wid (f : Nat) : Nat := if f = 0 then 4 else 2
set_option maxHeartbeats 400000 in
theorem width_any (f : Nat) (w : World) (hf : f ≤ 8) : Calls Tryd.prog 43 #[.int .i64 f] w fun e w' => e = .returned (.int .i64 (wid f : Nat)) ∧ w = w' := by
  have hf2 : f = 0 ∨ f = 1 ∨ f = 2 ∨ f = 3 ∨ f = 4 ∨ f = 5 ∨ f = 6 ∨ f = 7 ∨ f = 8 := by omega
  clear hf
  rcases hf2 with rfl | rfl | rfl | rfl | rfl | rfl | rfl | rfl | rfl <;>
    (go_enter Tryd.func43, Tryd.ntmps43
     go_wp2
     go_ret
     exact ⟨rfl, rfl⟩)
/-- a digit -/
def isD (c : UInt8) : Bool := 48 ≤ c && c ≤ 57
theorem isD_iff (c : UInt8) : isD c = true ↔ (48 ≤ c.toNat ∧ c.toNat ≤ 57) := by
  unfold isD; simp [UInt8.le_iff_toNat_le]
/-- the number of some digits -/
def numv (l : List UInt8) : Nat := l.foldl (fun n c => 10 * n + (c.toNat - 48)) 0
theorem numv_snoc (l : List UInt8) (c : UInt8) : numv (l ++ [c]) = 10 * numv l + (c.toNat - 48) := by unfold numv; simp
theorem numv_lt (l : List UInt8) (h : ∀ c ∈ l, isD c = true) : numv l < 10 ^ l.length := by
  suffices h2 : ∀ (r : List UInt8), (∀ c ∈ r, isD c = true) → numv r.reverse < 10 ^ r.length by
    have := h2 l.reverse (fun c hc => h c (List.mem_reverse.1 hc))
    simpa using this
  intro r
  induction r with
  | nil => intro _; decide
  | cons c r ih =>
    intro hr
    have h1 := ih (fun d hd => hr d (by simp [hd]))
    have h2 := (isD_iff c).1 (hr c (by simp))
    rw [List.reverse_cons, numv_snoc, List.length_cons, Nat.pow_succ]; omega
theorem ba_getD (s : ByteArray) (k : Nat) (h : k < s.size) : s.data.toList.getD k 0 = s[k] := by
  rw [List.getD_eq_getElem?_getD, List.getElem?_eq_getElem (by simpa using h)]; rfl
theorem ba_take (s : ByteArray) (k : Nat) (h : k < s.size) : s.data.toList.take (k + 1) = s.data.toList.take k ++ [s[k]] := by
  rw [List.take_succ_eq_append_getElem (by simpa using h)]; rfl
set_option maxHeartbeats 1000000 in
theorem number_any (s : ByteArray) (w : World) (hs : s.size ≤ 9) (hd : ∀ c ∈ s.data.toList, isD c = true) :
    Calls Tryd.prog 44 #[.string s] w fun e w' => e = .returned (.int .i64 (numv s.data.toList : Nat)) ∧ w = w' := by
  have hlen : s.data.toList.length = s.size := by simp
  have HE : Hid (numv (s.data.toList.take s.size) = numv s.data.toList) := by show _ = _; rw [List.take_of_length_le (by omega)]
  have HS : Hid (∀ k (h : k < s.size), numv (s.data.toList.take (k + 1)) = 10 * numv (s.data.toList.take k) + ((s[k]).toNat - 48)) := fun k h => by rw [ba_take s k h, numv_snoc]
  have HB : Hid (∀ k, k ≤ s.size → numv (s.data.toList.take k) ≤ 1000000000) := fun k hk => by
    have h1 := numv_lt (s.data.toList.take k) (fun c hc => hd c (List.mem_of_mem_take hc))
    have h2 : 10 ^ (s.data.toList.take k).length ≤ 10 ^ 9 := Nat.pow_le_pow_right (by omega) (by rw [List.length_take]; omega)
    omega
  have HD : Hid (∀ k (h : k < s.size), 48 ≤ (s[k]).toNat ∧ (s[k]).toNat ≤ 57) := fun k h => (isD_iff _).1 (hd _ (by
    rw [← ba_getD s k h, List.getD_eq_getElem?_getD, List.getElem?_eq_getElem (by omega)]
    exact List.getElem_mem _))
  clear hd hlen
  generalize s.data.toList = l at *
  go_enter Tryd.func44, Tryd.ntmps44
  go_wp2
  go_loop [3, 7] (fun v i => ∃ k : Nat, k ≤ s.size ∧ i = .int .i64 k ∧ v = .int .i64 (numv (l.take k) : Nat)) (fun _ i => s.size - (intOf i).toNat)
  case atStart => exact ⟨0, Nat.zero_le _, rfl, rfl⟩
  case round =>
    obtain ⟨k, hk, rfl, rfl⟩ := hrel
    have hbk := HB.out k hk
    by_cases hlt : k < s.size
    · have hst := Lib.hid (HS.out k hlt)
      have hdk := HD.out k hlt
      have h1 : (48 : Int) ≤ ((s[k]).toNat : Int) := by omega
      have h2 : ((s[k]).toNat : Int) ≤ 57 := by omega
      have e1 : Hid (∀ x : Nat, 10 * (x : Int) + (((s[k]).toNat : Int) - 48) = ((10 * x + ((s[k]).toNat - 48) : Nat) : Int)) := fun x => by omega
      clear hdk
      generalize numv (l.take k) = x at *
      go_wp2
      go_round
      case rel => exact ⟨k + 1, by omega, by go_num, by rw [hst.out, ← e1.out]⟩
      case measure => simp [intOf]; omega
    · obtain rfl : k = s.size := by omega
      go_wp2
      go_ret
      rw [HE.out]
      exact ⟨rfl, rfl⟩
end Go.Proofs.YtckeefjmamggmaaDoor
