/-
  Helper: the walk of At of position.Lines: a binary search among the lines' beginnings.
-/
import Derived.Test.YtmoljdgalonlpabDoorPosMeth
import Derived.Test.YtmoljdgalonlpabDoorShelfB
import Derived.IntWalk
namespace Go.Proofs.YtmoljdgalonlpabDoor
open Go.RowKit
set_option linter.unusedVariables false

theorem range_map (xs : List Nat) : xs = (List.range xs.length).map (fun i => xs.getD i 0) := by
  apply List.ext_getElem
  · simp
  · intro i h1 h2
    simp [List.getElem_map, List.getElem_range, List.getElem?_eq_getElem h1]
theorem search_count (s : ByteArray) (o : Nat) (ho : o ≤ s.size) : (List.range (nln s)).countP (fun i => !decide ((o : Int) < ((nlf s i : Nat) : Int))) = cnt s.data.toList o := by
  have h := countP_le s.data.toList o (by rw [len_eq]; exact ho)
  rw [len_eq, range_map (nls s.data.toList s.size), List.countP_map] at h
  rw [← h]
  unfold nln cnt nlf
  congr 1
  funext i
  simp only [Function.comp]
  by_cases g : (nls s.data.toList s.size).getD i 0 ≤ o
  · rw [decide_eq_true g, decide_eq_false (by omega)]; rfl
  · rw [decide_eq_false g, decide_eq_true (by omega)]; rfl
theorem nlf_lt (s : ByteArray) (i j : Nat) (hij : i < j) (hj : j < nln s) : nlf s i < nlf s j := nls_lt _ _ _ _ hij hj

set_option maxHeartbeats 400000 in
theorem closure_any (ba bo : Nat) (s : ByteArray) (a : Option Addr) (n cap : Nat) (f : Nat → Nat) (o : Int) (W : World) (hr : Rd W a n f) (i : Nat) (hi : i < n) (hn : n ≤ 100000)
    (h1 : W.cell? ⟨ba, 1, none⟩ = some (.slice a n cap)) (ho : W.cell? ⟨bo, 0, none⟩ = some (.int .i64 o)) :
    Calls Tryd.prog 12 (#[.int .i64 i] ++ #[.pointer (some ⟨ba, 0, none⟩), .pointer (some ⟨bo, 0, none⟩)]) W fun e w' => e = .returned (.bool (decide (o < ((f i : Nat) : Int)))) ∧ ∃ q, w' = W.drewN q := by
  obtain ⟨b, off, rfl, hlt, hc⟩ := hr.at i hi
  clear hr
  have hiz : (i : Int) < (n : Int) := by omega
  go_enter Tryd.func12, Tryd.ntmps12
  go_wp2
  go_region
  all_goals go_wp2
  all_goals go_ret
  all_goals exact ⟨rfl, 1, rfl⟩

theorem enter50 : ∀ args w, (callFunc 12 args).run Tryd.prog w = .ok (.enter 12 args) w := Go.Proofs.enters_of Tryd.func12 (by kernel_rfl) rfl

/-- the two boxes that At lays: its receiver and its offset -/
def boxes (w : World) (s : ByteArray) (a : Option Addr) (n cap : Nat) (o : Int) : World := (w.alloc (.cells #[.string s, .slice a n cap] 24)).alloc (.cells #[.int .i64 o] 3)
theorem boxes_cells (w : World) (s : ByteArray) (a : Option Addr) (n cap : Nat) (o : Int) :
    (boxes w s a n cap o).cell? ⟨w.heap.size, 0, none⟩ = some (.string s) ∧ (boxes w s a n cap o).cell? ⟨w.heap.size, 1, none⟩ = some (.slice a n cap) ∧ (boxes w s a n cap o).cell? ⟨w.heap.size + 1, 0, none⟩ = some (.int .i64 o) ∧ (boxes w s a n cap o).heap.size = w.heap.size + 1 + 1 ∧ Below w.heap.size w (boxes w s a n cap o) := by
  unfold boxes
  refine ⟨?_, ?_, ?_, by simp, ((Below.refl _ w).alloc (Nat.le_refl _) _).alloc (by simp) _⟩
  · rw [World.cell?_alloc_past _ _ _ (by simp), World.cell?_alloc_at _ _ _ _ rfl]; rfl
  · rw [World.cell?_alloc_past _ _ _ (by simp), World.cell?_alloc_at _ _ _ _ rfl]; rfl
  · rw [World.cell?_alloc_at _ _ _ _ (by simp)]; rfl
theorem below_grow (B : Nat) (w : World) (q : Nat) (os : Array Obj) (h : B ≤ w.heap.size) : Below B w (Go.Sort.grow (w.drewN q) os) := below_grown_sl B w q os h

set_option maxHeartbeats 400000 in
theorem search_any (s : ByteArray) (a : Option Addr) (cap : Nat) (o : Nat) (w : World) (hs : s.size ≤ 100000) (hr : Rd w a (nln s) (nlf s)) (ho : o ≤ s.size) :
    Calls Tryd.prog 11 #[.int .i64 (nln s), .func (.func 12) #[] #[.pointer (some ⟨w.heap.size, 0, none⟩), .pointer (some ⟨w.heap.size + 1, 0, none⟩)]] (boxes w s a (nln s) cap o) fun e w' => e = .returned (.int .i64 (cnt s.data.toList o)) ∧ Below (w.heap.size + 1 + 1) (boxes w s a (nln s) cap o) w' := by
  obtain ⟨c0, c1, c2, hz, hb⟩ := boxes_cells w s a (nln s) cap o
  have hn := nln_le s
  have h := Any.sort_Search Tryd.search 12 #[.pointer (some ⟨w.heap.size, 0, none⟩), .pointer (some ⟨w.heap.size + 1, 0, none⟩)] (nln s) (fun i => decide ((o : Int) < ((nlf s i : Nat) : Int))) (boxes w s a (nln s) cap o) enter50 (by omega)
    (fun m os i hi => by
      have hg := below_grow (boxes w s a (nln s) cap o).heap.size (boxes w s a (nln s) cap o) m os (Nat.le_refl _)
      refine (closure_any w.heap.size (w.heap.size + 1) s a (nln s) cap (nlf s) o _ ((hr.below hb).below hg) i hi (by omega) ?_ ?_).mono ?_
      · rw [hg.cell (by rw [hz]; show w.heap.size < _; omega)]; exact c1
      · rw [hg.cell (by rw [hz]; show w.heap.size + 1 < _; omega)]; exact c2
      · rintro e w' ⟨he, q, hq⟩
        exact ⟨he, q, #[], by rw [hq, Go.Sort.grow_empty]⟩)
    (fun x y hxy hy h => by
      by_cases e : x = y
      · rw [← e]; exact h
      · have := nlf_lt s x y (by omega) hy
        simp only [decide_eq_true_eq] at h ⊢
        omega)
  rw [search_count s o ho] at h
  refine h.mono ?_
  rintro e w' ⟨rfl, q, os, rfl⟩
  exact ⟨rfl, below_grow _ _ _ _ (by omega)⟩

theorem keep3 {w0 : World} {k : Nat} {a : Option Addr} {n : Nat} {f : Nat → Nat} {w w' : World} {x y z : Value} (hb : Below w.heap.size w w') (h : w.cell? ⟨k, 0, none⟩ = some x ∧ w.cell? ⟨k, 1, none⟩ = some y ∧ w.cell? ⟨k + 1, 0, none⟩ = some z ∧ Kept w0 k a n f w ∧ k + 1 < w.heap.size) :
    w'.cell? ⟨k, 0, none⟩ = some x ∧ w'.cell? ⟨k, 1, none⟩ = some y ∧ w'.cell? ⟨k + 1, 0, none⟩ = some z ∧ Kept w0 k a n f w' ∧ k + 1 < w'.heap.size := by
  obtain ⟨h0, h1, h2, hk, hz⟩ := h
  obtain ⟨g0, g1, gk⟩ := keep2 hb ⟨h0, h1, hk⟩
  exact ⟨g0, g1, by rw [hb.cell (p := ⟨k + 1, 0, none⟩) hz]; exact h2, gk, Nat.lt_of_lt_of_le hz hb.size⟩
theorem keep3_drew {w0 : World} {k : Nat} {a : Option Addr} {n : Nat} {f : Nat → Nat} {w : World} {x y z : Value} (h : w.cell? ⟨k, 0, none⟩ = some x ∧ w.cell? ⟨k, 1, none⟩ = some y ∧ w.cell? ⟨k + 1, 0, none⟩ = some z ∧ Kept w0 k a n f w ∧ k + 1 < w.heap.size) :
    w.drew.cell? ⟨k, 0, none⟩ = some x ∧ w.drew.cell? ⟨k, 1, none⟩ = some y ∧ w.drew.cell? ⟨k + 1, 0, none⟩ = some z ∧ Kept w0 k a n f w.drew ∧ k + 1 < w.drew.heap.size := keep3 ((Below.refl _ w).drew) h

set_option maxHeartbeats 1000000 in
theorem at_some (s : ByteArray) (a : Option Addr) (cap : Nat) (w : World) (hs : s.size ≤ 100000) (hr : Rd w a (nln s) (nlf s)) (o : Nat) (ho : o ≤ s.size) :
    Calls Tryd.prog 5 #[.agg #[.string s, .slice a (nln s) cap], .int .i64 o] w fun e w' => e = .returned (.tuple #[.int .i64 (cnt s.data.toList o), .int .i64 ((o : Int) - begS s (cnt s.data.toList o)), .int .i64 0]) ∧ Below w.heap.size w w' := by
  have hn := nln_le s
  have hco : cnt s.data.toList o ≤ nln s := cnt_mono _ _ _ ho
  have hbo : begS s (cnt s.data.toList o) ≤ o := beg_le _ _ (by rw [len_eq]; exact ho)
  have HS := Lib.hid (search_any s a cap o w hs hr ho)
  have HB := Lib.hid (fun w hr => begin_any s a cap w hs hr (cnt s.data.toList o) hco)
  have HR := Lib.hid hr
  clear hr
  have hBX := boxes_cells w s a (nln s) cap o
  have hmf : ∀ (fn : Fn) (first cap : Array Value) (w : World), (Instr.makeFunc fn first cap).run Tryd.prog w = .ok (.func fn first cap) w := fun _ _ _ _ => rfl
  generalize nln s = n at *
  generalize nlf s = f at *
  generalize cnt s.data.toList o = ln at *
  generalize begS s ln = be at *
  have HBX := Lib.hid hBX
  clear hBX
  go_enter Tryd.func5, Tryd.ntmps5
  go_wp2_with fail
  refine HS.out.mono ?_
  rintro e w1 ⟨rfl, hw1⟩
  obtain ⟨b0, b1, b2, hz, hb⟩ := HBX.out
  have c0 : w1.cell? ⟨w.heap.size, 0, none⟩ = some (.string s) := by rw [hw1.cell (by show w.heap.size < _; omega)]; exact b0
  have c1 : w1.cell? ⟨w.heap.size, 1, none⟩ = some (.slice a n cap) := by rw [hw1.cell (by show w.heap.size < _; omega)]; exact b1
  have c2 : w1.cell? ⟨w.heap.size + 1, 0, none⟩ = some (.int .i64 o) := by rw [hw1.cell (by show w.heap.size + 1 < _; omega)]; exact b2
  have hbw : Below w.heap.size w w1 := hb.trans (hw1.mono (by omega))
  have hz1 : w.heap.size + 1 < w1.heap.size := by have := hw1.size; omega
  clear b0 b1 b2 hz hb hw1 HBX HS
  have hS : w1.cell? ⟨w.heap.size, 0, none⟩ = some (.string s) ∧ w1.cell? ⟨w.heap.size, 1, none⟩ = some (.slice a n cap) ∧ w1.cell? ⟨w.heap.size + 1, 0, none⟩ = some (.int .i64 o) ∧ Kept w w.heap.size a n f w1 ∧ w.heap.size + 1 < w1.heap.size := ⟨c0, c1, c2, ⟨HR.out.below hbw, hbw, by omega⟩, hz1⟩
  clear c0 c1 c2 hbw hz1
  go_wp2_with fail
  go_region_held3 (fun w' => w'.cell? ⟨w.heap.size, 0, none⟩ = some (.string s) ∧ w'.cell? ⟨w.heap.size, 1, none⟩ = some (.slice a n cap) ∧ w'.cell? ⟨w.heap.size + 1, 0, none⟩ = some (.int .i64 o) ∧ Kept w w.heap.size a n f w' ∧ w.heap.size + 1 < w'.heap.size) (first | assumption | exact keep3_drew (by assumption) | exact keep3 (by assumption) (by assumption))
    (first | (go_at_call 13; refine (HB.out _ ?_).mono ?_; exact (by assumption : _ ∧ _ ∧ _ ∧ Kept _ _ _ _ _ _ ∧ _).2.2.2.1.1; rintro e w' ⟨rfl, hbb⟩))
  rename_i wz hSz
  obtain ⟨_, _, _, hk, _⟩ := hSz
  have hbz := hk.2.1
  clear hk
  go_wp2_with fail
  go_ret3
  have hwr : IntKind.i64.wrap ((o : Int) - (be : Int)) = (o : Int) - be := IntWalk.i64_in _ (by omega)
  refine ⟨?_, hbz⟩
  rw [hwr]
  rfl

set_option maxHeartbeats 400000 in
theorem at_none (s : ByteArray) (a : Option Addr) (n cap : Nat) (w : World) (hs : s.size ≤ 100000) (o : Int) (ho : o < 0 ∨ (s.size : Int) < o) :
    Calls Tryd.prog 5 #[.agg #[.string s, .slice a n cap], .int .i64 o] w fun e w' => e = .returned (.tuple #[.int .i64 0, .int .i64 0, .int .i64 2]) ∧ Below w.heap.size w w' := by
  rcases ho with ho | ho
  all_goals
    go_enter Tryd.func5, Tryd.ntmps5
    go_wp2_with fail
    go_ret3
    exact ⟨rfl, ((Below.refl _ w).alloc (Nat.le_refl _) _).alloc (by simp) _⟩
end Go.Proofs.YtmoljdgalonlpabDoor
