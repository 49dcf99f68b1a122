/-
  Helper: the walks of the scanner's three functions.
-/
import Derived.Test.YtckeefjmamggmaaDoorInBase
import Derived.Lib.IndexLaws
namespace Go.Proofs.YtckeefjmamggmaaDoor
open Go.RowKit
set_option linter.unusedVariables false

/-- one block may have changed, no other -/
def Only (g : Nat) (w w' : World) : Prop := Below g w w' ∧ w'.heap.size = w.heap.size ∧ ∀ k, k ≠ g → w'.heap[k]? = w.heap[k]?
theorem Only.refl (g : Nat) (w : World) : Only g w w := ⟨Below.refl _ _, rfl, fun _ _ => rfl⟩
theorem Only.set {g : Nat} {w a : World} (h : Only g w a) (i : Nat) (v : Value) : Only g w (a.setCell ⟨g, i, none⟩ v) :=
  ⟨h.1.setCell (Nat.le_refl _) _, by simp [World.setCell, h.2.1], fun k hk => by rw [Below.heap_setCell _ _ _ _ hk]; exact h.2.2 k hk⟩
theorem Only.trans {g : Nat} {w a b : World} (h : Only g w a) (h2 : Only g a b) : Only g w b :=
  ⟨h.1.trans h2.1, h2.2.1.trans h.2.1, fun k hk => (h2.2.2 k hk).trans (h.2.2 k hk)⟩
theorem Only.blk {g k t : Nat} {w a : World} {cs : List Value} (h : Only g w a) (hb : Blk w k t cs) (hk : k ≠ g) : Blk a k t cs := (h.2.2 k hk).trans hb
theorem idx_hit (l : List UInt8) (c : UInt8) (h : c ∈ l) : 0 ≤ Lib.indexByte l c := by
  have h1 := Lib.indexByte_ge l c
  by_cases e : Lib.indexByte l c = -1
  · obtain ⟨k, hk, rfl⟩ := List.getElem_of_mem h
    exact absurd (List.getElem?_eq_getElem hk) (Lib.indexByte_none e k)
  · omega
theorem idx_miss (l : List UInt8) (c : UInt8) (h : c ∉ l) : Lib.indexByte l c = -1 := by
  have h1 := Lib.indexByte_ge l c
  by_cases e : Lib.indexByte l c = -1
  · exact e
  · obtain ⟨o, ho⟩ : ∃ o : Nat, Lib.indexByte l c = o := ⟨(Lib.indexByte l c).toNat, by omega⟩
    exact absurd (List.mem_of_getElem? (Lib.indexByte_some ho).1) h
theorem ib_any (m : ByteArray) (c : UInt8) (w : World) : Calls Tryd.prog 53 #[.string m, .int .u8 (c.toNat : Int)] w fun e w' => e = .returned (.int .i64 (Lib.indexByte m.data.toList c)) ∧ w = w' :=
  (Tryd.strings_IndexByte m (c.toNat : Int) w).mono fun e w' ⟨h1, h2⟩ => ⟨by
    rw [h1]
    have : ((c.toNat : Int).toNat).toUInt8 = c := by simp
    rw [this], h2.symm⟩
set_option maxHeartbeats 1000000 in
theorem take_hit (m s : ByteArray) (ba bs p : Nat) (w : World) (hs : s.size ≤ 1000000) (hp : p < s.size) (hm : s[p] ∈ m.data.toList) (hb : Blk w bs 9 [.string s]) (ha : Blk w ba 3 [.int .i64 p]) (hne : bs ≠ ba) :
    Calls Tryd.prog 52 #[.string m, .pointer (some ⟨ba, 0, none⟩), .pointer (some ⟨bs, 0, none⟩)] w fun e w' => e = .returned (.int .u8 (s[p].toNat : Int)) ∧ Only ba w w' ∧ Blk w' ba 3 [.int .i64 (p + 1 : Nat)] := by
  have c1 := hb.cell 0 _ rfl
  have c2 := ha.cell 0 _ rfl
  have f2 := ha.free 0
  have hne2 : (p : Int) ≠ (s.size : Int) := by omega
  have hne3 : ((p : Int) == (s.size : Int)) = false := by rw [beq_eq_false_iff_ne]; exact hne2
  have hIB := Lib.hid (fun w => ib_any m s[p] w)
  have h0 := idx_hit _ _ hm
  have hA : Hid (Blk (w.setCell ⟨ba, 0, none⟩ (.int .i64 ((p + 1 : Nat) : Int))) ba 3 [.int .i64 (p + 1 : Nat)]) := ha.set 0 _
  have hO : Hid (Only ba w (w.setCell ⟨ba, 0, none⟩ (.int .i64 ((p + 1 : Nat) : Int)))) := (Only.refl ba w).set 0 _
  have hpi : (p : Int) < (s.size : Int) := by omega
  have hcc := Lib.hid ((hb.far hne 0 (.int .i64 ((p + 1 : Nat) : Int))).cell 0 _ rfl)
  have hcd := Lib.hid (hA.out.cell 0 _ rfl)
  clear hb ha hne2 hm
  generalize Lib.indexByte m.data.toList s[p] = ix at *
  go_enter Tryd.func52, Tryd.ntmps52
  go_wp2_with fail
  refine (hIB.out _).mono ?_
  rintro e w1 ⟨rfl, rfl⟩
  have hcc2 := hcc.out
  have hcd2 := hcd.out
  go_wp2
  go_ret
  exact ⟨rfl, hO.out, hA.out⟩
set_option maxHeartbeats 1000000 in
theorem take_end (m s : ByteArray) (ba bs : Nat) (w : World) (hs : s.size ≤ 1000000) (hb : Blk w bs 9 [.string s]) (ha : Blk w ba 3 [.int .i64 s.size]) :
    Calls Tryd.prog 52 #[.string m, .pointer (some ⟨ba, 0, none⟩), .pointer (some ⟨bs, 0, none⟩)] w fun e w' => e = .returned (.int .u8 0) ∧ w = w' := by
  have c1 := hb.cell 0 _ rfl
  have c2 := ha.cell 0 _ rfl
  clear hb ha
  go_enter Tryd.func52, Tryd.ntmps52
  go_wp2
  go_ret
  exact ⟨rfl, rfl⟩
set_option maxHeartbeats 1000000 in
theorem take_miss (m s : ByteArray) (ba bs p : Nat) (w : World) (hs : s.size ≤ 1000000) (hp : p < s.size) (hm : s[p] ∉ m.data.toList) (hb : Blk w bs 9 [.string s]) (ha : Blk w ba 3 [.int .i64 p]) :
    Calls Tryd.prog 52 #[.string m, .pointer (some ⟨ba, 0, none⟩), .pointer (some ⟨bs, 0, none⟩)] w fun e w' => e = .returned (.int .u8 0) ∧ w = w' := by
  have c1 := hb.cell 0 _ rfl
  have c2 := ha.cell 0 _ rfl
  have hne3 : ((p : Int) == (s.size : Int)) = false := by rw [beq_eq_false_iff_ne]; omega
  have hIB := Lib.hid (fun w => ib_any m s[p] w)
  have h0 := idx_miss _ _ hm
  rw [h0] at hIB
  have hpi : (p : Int) < (s.size : Int) := by omega
  clear hb ha h0 hm
  go_enter Tryd.func52, Tryd.ntmps52
  go_wp2_with fail
  refine (hIB.out _).mono ?_
  rintro e w1 ⟨rfl, rfl⟩
  go_wp2
  go_ret
  exact ⟨rfl, rfl⟩
set_option maxHeartbeats 1000000 in
theorem ended_any (s : ByteArray) (ba bs p : Nat) (w : World) (hs : s.size ≤ 1000000) (hb : Blk w bs 9 [.string s]) (ha : Blk w ba 3 [.int .i64 p]) :
    Calls Tryd.prog 55 #[.pointer (some ⟨ba, 0, none⟩), .pointer (some ⟨bs, 0, none⟩)] w fun e w' => e = .returned (.bool (decide (p = s.size))) ∧ w = w' := by
  have c1 := hb.cell 0 _ rfl
  have c2 := ha.cell 0 _ rfl
  clear hb ha
  by_cases h : p = s.size
  · subst h
    have hd : decide (s.size = s.size) = true := decide_eq_true rfl
    rw [hd]
    clear hd
    go_enter Tryd.func55, Tryd.ntmps55
    go_wp2
    go_ret
    exact ⟨rfl, rfl⟩
  · have hd : decide (p = s.size) = false := decide_eq_false h
    have hne3 : ((p : Int) == (s.size : Int)) = false := by rw [beq_eq_false_iff_ne]; omega
    rw [hd]
    clear hd h
    go_enter Tryd.func55, Tryd.ntmps55
    go_wp2
    go_ret
    exact ⟨rfl, rfl⟩
end Go.Proofs.YtckeefjmamggmaaDoor
