/-
  Helper: the walk of the function in read that reads a group of fields.
-/
import Derived.Test.YtckeefjmamggmaaDoorInDig
import Derived.Deep.RegionLaw
import Derived.BigRegion
namespace Go.Proofs.YtckeefjmamggmaaDoor
open Go.RowKit
set_option linter.unusedVariables false

/-- the contents of a text, as cells -/
def tx (sh : Nat) (f : List Nat) (na zo : Nat) : List Value := .int .i64 sh :: (f.map (fun (n : Nat) => Value.int .i64 n) ++ [.int .i64 na, .int .u8 zo])
theorem tx_f (sh : Nat) (f : List Nat) (na zo k : Nat) (hf : f.length = 8) (hk : k < 8) : (tx sh f na zo)[1 + k]? = some (.int .i64 (f.getD k 0 : Nat)) := by
  unfold tx
  rw [Nat.add_comm, List.getElem?_cons_succ, List.getElem?_append_left (by simp; omega), List.getElem?_map, List.getElem?_eq_getElem (by omega), List.getD_eq_getElem?_getD, List.getElem?_eq_getElem (by omega)]; rfl
theorem tx_set (sh : Nat) (f : List Nat) (na zo k v : Nat) (hf : f.length = 8) (hk : k < 8) : (tx sh f na zo).set (1 + k) (.int .i64 (v : Nat)) = tx sh (f.set k v) na zo := by
  unfold tx
  rw [Nat.add_comm, List.set_cons_succ, List.set_append_left _ _ (by simp; omega), ← List.map_set]
/-- what read holds in memory -/
def St (w : World) (N : Nat) (s : ByteArray) (p : Nat) (X : List Value) : Prop :=
  Blk w (N + 1) 43 X ∧ Blk w (N + 2) 9 [.string s] ∧ Blk w (N + 3) 3 [.int .i64 p] ∧
  Blk w (N + 4) 63 [.func (.func 52) #[] #[.pointer (some ⟨N + 3, 0, none⟩), .pointer (some ⟨N + 2, 0, none⟩)]] ∧
  Blk w (N + 5) 64 [.func (.func 54) #[] #[.pointer (some ⟨N + 3, 0, none⟩), .pointer (some ⟨N + 2, 0, none⟩)]] ∧
  Blk w N 43 (tx 0 (List.replicate 8 0) 0 0)
theorem St.only {w w' : World} {N : Nat} {s : ByteArray} {p q : Nat} {X : List Value} (h : St w N s p X) (ho : Only (N + 3) w w') (ha : Blk w' (N + 3) 3 [.int .i64 q]) : St w' N s q X :=
  ⟨ho.blk h.1 (by omega), ho.blk h.2.1 (by omega), ha, ho.blk h.2.2.2.1 (by omega), ho.blk h.2.2.2.2.1 (by omega), ho.blk h.2.2.2.2.2 (by omega)⟩
theorem St.put {w : World} {N : Nat} {s : ByteArray} {p : Nat} {X : List Value} (h : St w N s p X) (i : Nat) (v : Value) : St (w.setCell ⟨N + 1, i, none⟩ v) N s p (X.set i v) :=
  ⟨h.1.set i v, h.2.1.far (by omega) _ _, h.2.2.1.far (by omega) _ _, h.2.2.2.1.far (by omega) _ _, h.2.2.2.2.1.far (by omega) _ _, h.2.2.2.2.2.far (by omega) _ _⟩
theorem St.drew {w : World} {N : Nat} {s : ByteArray} {p : Nat} {X : List Value} (h : St w N s p X) (k : Nat) : St (w.drewN k) N s p X := h
/-- the blocks of read alone have changed -/
def Own (N : Nat) (w w' : World) : Prop := Below N w w' ∧ w'.heap.size = w.heap.size
theorem Own.refl (N : Nat) (w : World) : Own N w w := ⟨Below.refl _ _, rfl⟩
theorem Own.only {N : Nat} {w a b : World} (h : Own N w a) (ho : Only (N + 3) a b) : Own N w b := ⟨h.1.trans (ho.1.mono (by omega)), ho.2.1.trans h.2⟩
theorem Own.put {N : Nat} {w a : World} (h : Own N w a) (i : Nat) (v : Value) : Own N w (a.setCell ⟨N + 1, i, none⟩ v) := ⟨h.1.setCell (by show N ≤ N + 1; omega) _, by simp [World.setCell, h.2]⟩
theorem Own.drew {N : Nat} {w a : World} (h : Own N w a) (k : Nat) : Own N w (a.drewN k) := ⟨Below.drewN h.1 k, h.2⟩
theorem Own.trans {N : Nat} {w a b : World} (h : Own N w a) (h2 : Own N a b) : Own N w b := ⟨h.1.trans h2.1, h2.2.trans h.2⟩

/-- a group of fields -/
def grpF (l : List UInt8) (mk : UInt8) (first : Nat) : Nat → Nat → Nat → List Nat → Bool × Nat × List Nat
  | 0, _, p, f => (true, p, f)
  | n + 1, fd, p, f =>
    if first < fd then
      if p < l.length ∧ l.getD p 0 = mk then
        if rn l (p + 1) (wid fd) < wid fd then (false, p + 1 + rn l (p + 1) (wid fd), f)
        else grpF l mk first n (fd + 1) (p + 1 + wid fd) (f.set fd (numv ((l.drop (p + 1)).take (wid fd))))
      else (false, p, f)
    else
      if rn l p (wid fd) < wid fd then (false, p + rn l p (wid fd), f)
      else grpF l mk first n (fd + 1) (p + wid fd) (f.set fd (numv ((l.drop p).take (wid fd))))
def GrpP (N : Nat) (s : ByteArray) (sh na zo : Nat) (r : Bool × Nat × List Nat) (w : World) (e : Ending) (w' : World) : Prop :=
  e = .returned (.bool r.1) ∧ St w' N s r.2.1 (tx sh r.2.2 na zo) ∧ Own N w w' ∧ r.2.1 ≤ s.size ∧ r.2.2.length = 8
theorem wid_le (f : Nat) : wid f ≤ 4 ∧ 2 ≤ wid f := by unfold wid; split <;> omega
/-- the digits that were read, as a text of its own -/
theorem ext_facts (s : ByteArray) (p r : Nat) (h : p + r ≤ s.size) : (s.extract p (p + r)).size = r ∧ (s.extract p (p + r)).data.toList = (s.data.toList.drop p).take r := by
  refine ⟨by rw [ByteArray.size_extract]; omega, ?_⟩
  rw [Lib.extract_data, show p + r - p = r by omega]
theorem ext_digs (s : ByteArray) (p most : Nat) : ∀ c ∈ (s.data.toList.drop p).take (rn s.data.toList p most), isD c = true := by
  intro c hc
  obtain ⟨i, hi, rfl⟩ := List.getElem_of_mem hc
  have h1 := rn_le s.data.toList p most
  rw [List.length_take, List.length_drop] at hi
  have := rn_dig s.data.toList p most i (by omega)
  rw [List.getElem_take, List.getElem_drop]
  rw [List.getD_eq_getElem?_getD, List.getElem?_eq_getElem (by omega)] at this
  exact this
/-- one field: the digits are read, and put into the field -/
theorem mark_mem (s : ByteArray) (mk : UInt8) (p : Nat) (hp : p < s.size) : s[p] ∈ (⟨#[mk]⟩ : ByteArray).data.toList ↔ s.data.toList.getD p 0 = mk := by
  rw [ba_getD s p hp]
  simp
end Go.Proofs.YtckeefjmamggmaaDoor
