/-
  Helper: rows of bytes that a call owns; the walk of slices.Reverse at []byte.
-/
import Derived.Test.YtmnopohjnbpinabINat2
import Derived.Deep.LoopGhost
import Derived.RegionTactic
namespace Go.Proofs.Ytmnopohjnbpinab
open Go.RowKit
set_option linter.unusedVariables false

/-- a slice of bytes that a call owns, at the head of block g -/
def Ow (w : World) (B g n cap : Nat) (l : List UInt8) : Prop := w.ownsRow B 5 1 (.slice (some ⟨g, 0, none⟩) n cap) n (bytes l)
theorem Ow.len {w : World} {B g n cap : Nat} {l : List UInt8} (h : Ow w B g n cap l) : l.length = n := by have := h.1; rw [bytes_len, Nat.mul_one] at this; exact this
theorem Ow.lt {w : World} {B g n cap : Nat} {l : List UInt8} (h : Ow w B g n cap l) : B ≤ g ∧ g < w.heap.size := World.ownsRow.lt h g rfl
theorem Ow.cell {w : World} {B g n cap : Nat} {l : List UInt8} (h : Ow w B g n cap l) (i : Nat) (hi : i < n) : w.cell? ⟨g, i, none⟩ = some (.int .u8 ((l.getD i 0).toNat : Int)) := by
  have := World.ownsRow.cellAt h i (by omega)
  rw [this]; exact bytes_get l i (by have := h.len; omega)
theorem Ow.free {w : World} {B g n cap : Nat} {l : List UInt8} (h : Ow w B g n cap l) (i : Nat) : w.frozen? ⟨g, i, none⟩ = false := World.ownsRow.frozenAt h i
theorem Ow.put {w : World} {B g n cap : Nat} {l : List UInt8} (h : Ow w B g n cap l) (i : Nat) (z : Int) (c : UInt8) (hz : z = (c.toNat : Int)) : Ow (w.setCell ⟨g, i, none⟩ (.int .u8 z)) B g n cap (l.set i c) := by
  have := (World.ownsRow.stored h i (.int .u8 z)).1
  rw [hz, bytes_set] at this
  rw [hz]; exact this
theorem Ow.draws {w : World} {B g n cap : Nat} {l : List UInt8} (h : Ow w B g n cap l) (k : Nat) : Ow (w.drewN k) B g n cap l := h
/-- the list with its first and its last k places exchanged -/
def Revk (l R : List UInt8) (k : Nat) : Prop := R.length = l.length ∧ ∀ i, i < l.length → R.getD i 0 = if i < k ∨ l.length ≤ i + k then l.getD (l.length - 1 - i) 0 else l.getD i 0
theorem revk_zero (l : List UInt8) : Revk l l 0 := ⟨rfl, fun i hi => by rw [if_neg (by omega)]⟩
theorem getD_set (l : List UInt8) (i j : Nat) (c : UInt8) (hj : j < l.length) : (l.set i c).getD j 0 = if i = j then c else l.getD j 0 := by
  rw [List.getD_eq_getElem?_getD, List.getElem?_set]
  split
  · rename_i h; subst h; rw [if_pos hj]; rfl
  · rw [← List.getD_eq_getElem?_getD]
theorem revk_step (l R : List UInt8) (k j : Nat) (hkj : k + j + 1 = l.length) (hlt : k < j) (h : Revk l R k) : Revk l ((R.set k (R.getD j 0)).set j (R.getD k 0)) (k + 1) := by
  obtain ⟨h1, h2⟩ := h
  refine ⟨by simp [h1], fun i hi => ?_⟩
  rw [getD_set _ _ _ _ (by simp; omega), getD_set _ _ _ _ (by omega)]
  have ek := h2 k (by omega)
  have ej := h2 j (by omega)
  rw [if_neg (by omega)] at ek ej
  by_cases e1 : j = i
  · rw [if_pos e1, ek, if_pos (by omega)]; congr 1; omega
  · rw [if_neg e1]
    by_cases e2 : k = i
    · rw [if_pos e2, ej, if_pos (by omega)]; congr 1; omega
    · rw [if_neg e2, h2 i hi]
      by_cases e3 : i < k ∨ l.length ≤ i + k
      · rw [if_pos e3, if_pos (by omega)]
      · rw [if_neg e3, if_neg (by omega)]
theorem revk_end (l R : List UInt8) (k : Nat) (hk : l.length ≤ 2 * k + 1) (h : Revk l R k) : R = l.reverse := by
  obtain ⟨h1, h2⟩ := h
  refine List.ext_getElem (by simp [h1]) fun i g1 g2 => ?_
  have := h2 i (by omega)
  rw [List.getD_eq_getElem?_getD, List.getElem?_eq_getElem g1] at this
  rw [List.getElem_reverse]
  have e : ∀ j (hj : j < l.length), l.getD j 0 = l[j] := fun j hj => by rw [List.getD_eq_getElem?_getD, List.getElem?_eq_getElem hj]; rfl
  change R[i] = _ at this
  rw [this]
  split
  · rw [e _ (by omega)]
  · rename_i h3
    rw [e _ (by omega)]
    congr 1; omega

set_option maxRecDepth 100000 in
set_option maxHeartbeats 2000000 in
theorem reverse_own (l : List UInt8) (B g n cap : Nat) (w : World) (h : Ow w B g n cap l) (hn : n ≤ 1000000) :
    Calls Try.prog 75 #[.slice (some ⟨g, 0, none⟩) n cap] w fun e w' => e = .returned (.tuple #[]) ∧ Ow w' B g n cap l.reverse ∧ Below B w w' := by
  have hlen := Lib.hid h.len
  have hB := h.lt.1
  have HO := Lib.hid h
  clear h
  go_enter Try.func75, Try.ntmps75
  go_wp2
  go_loopw [2, 3] (fun a b wr => ∃ (k : Nat) (J : Int) (R : List UInt8), k ≤ n ∧ a = .int .i64 k ∧ b = .int .i64 J ∧ -2 ≤ J ∧ J ≤ n ∧ Hid (J = (n : Int) - 1 - k ∧ Revk l R k ∧ Ow wr B g n cap R) ∧ Below B w wr) (fun a _ _ => n - (intOf a).toNat)
  case atStart => exact ⟨0, (n : Int) - 1, l, Nat.zero_le _, rfl, rfl, by omega, by omega, ⟨by omega, revk_zero l, HO.out⟩, Below.refl _ _⟩
  case round =>
    obtain ⟨k, J, R, hk, rfl, rfl, hJ1, hJ2, HR, hbel⟩ := hrel
    by_cases hlt : (k : Int) < J
    · obtain ⟨j, rfl⟩ : ∃ j : Nat, J = j := ⟨J.toNat, by omega⟩
      have hkj : k + j + 1 = l.length := by have := hlen.out; have := HR.out.1; omega
      have hkn : k < n := by have := hlen.out; omega
      have hjn : j < n := by have := hlen.out; omega
      have hkn2 : (k : Int) < n := by omega
      have hjn2 : (j : Int) < n := by omega
      have hj0 : (0 : Int) ≤ j := by omega
      have ck := HR.out.2.2.cell k hkn
      have cj := HR.out.2.2.cell j hjn
      have fk := HR.out.2.2.free k
      have fj := HR.out.2.2.free j
      have HS := Lib.hid (revk_step l R k j hkj (by omega) HR.out.2.1)
      have hkjh := Lib.hid hkj
      clear hkj
      generalize hxk : R.getD k 0 = x at *
      generalize hxj : R.getD j 0 = y at *
      have hxkh := Lib.hid hxk
      have hxjh := Lib.hid hxj
      clear hxk hxj
      go_wp2_with fail
      go_region
      go_wp2
      go_roundw
      case rel => exact ⟨k + 1, (j : Int) - 1, (R.set k y).set j x, by omega, by go_num, rfl, by omega, by omega, ⟨by have := HR.out.1; omega, HS.out, (show Ow (World.setCell (World.setCell wr ⟨g, k, none⟩ (.int .u8 (y.toNat : Int))) ⟨g, j, none⟩ (.int .u8 (x.toNat : Int))) B g n cap ((R.set k y).set j x) from (HR.out.2.2.put k _ y rfl).put j _ x rfl)⟩, ((hbel.setCell hB _).setCell hB _).drew⟩
      case measure => simp [intOf]; omega
    · have hR := Lib.hid (revk_end l R k (by have := hlen.out; have := HR.out.1; omega) HR.out.2.1)
      go_wp2
      go_end0
      exact ⟨rfl, by rw [← hR.out]; exact HR.out.2.2, hbel⟩
set_option maxHeartbeats 1000000 in
theorem reverse_nil (w : World) : Calls Try.prog 75 #[.slice none 0 0] w fun e w' => e = .returned (.tuple #[]) ∧ w = w' := by
  go_enter Try.func75, Try.ntmps75
  go_wp2
  go_loop [2, 3] (fun a b => a = .int .i64 0 ∧ b = .int .i64 (-1)) (fun _ _ => 0)
  case atStart => exact ⟨rfl, rfl⟩
  case round =>
    obtain ⟨rfl, rfl⟩ := hrel
    go_wp2
    go_end0
    exact ⟨rfl, rfl⟩
/-- bytes that the call made come back -/
def BytP (l : List UInt8) (w : World) (e : Ending) (w' : World) : Prop := ∃ v, e = .returned v ∧ w'.ownsRow w.heap.size 5 1 v l.length (bytes l) ∧ Below w.heap.size w w'
/-- reversed in place: whatever slice the call owns -/
theorem reverse_any (l : List UInt8) (B : Nat) (v : Value) (w : World) (h : w.ownsRow B 5 1 v l.length (bytes l)) (hn : l.length ≤ 1000000) :
    Calls Try.prog 75 #[v] w fun e w' => e = .returned (.tuple #[]) ∧ w'.ownsRow B 5 1 v l.length (bytes l.reverse) ∧ Below B w w' := by
  have hsh : v = .slice none 0 0 ∧ l.length = 0 ∨ ∃ g cap, v = .slice (some ⟨g, 0, none⟩) l.length cap := by
    rcases h.2 with h | ⟨g, cap, _, h, _⟩
    · exact .inl h
    · exact .inr ⟨g, cap, h⟩
  rcases hsh with ⟨rfl, h0⟩ | ⟨g, cap, rfl⟩
  · refine (reverse_nil w).mono fun e w' ⟨he, hw⟩ => ?_
    subst hw
    have : l = [] := List.eq_nil_of_length_eq_zero h0
    subst this
    exact ⟨he, h, Below.refl _ _⟩
  · exact (reverse_own l B g _ cap w h hn).mono fun e w' ⟨he, ho, hb⟩ => ⟨he, ho, hb⟩
end Go.Proofs.Ytmnopohjnbpinab
