/-
  Helper: the walk of Runes.Is: are two lists of runes equal.
-/
import Derived.Test.YtpebgggdpgppdaaDoorCpFeed2
namespace Go.Proofs.YtpebgggdpgppdaaDoor
open Go.RowKit
set_option linter.unusedVariables false

/-- the cells behind a slice that reads as a list of runes -/
def Rr (w : World) (a : Option Addr) (xs : List Int) : Prop :=
  xs = [] ∨ ∃ b off, a = some ⟨b, off, none⟩ ∧ b < w.heap.size ∧ ∀ i, i < xs.length → w.cell? ⟨b, off + i, none⟩ = some (.int .i32 (xs.getD i 0))
theorem Rr.below {w w' : World} {a : Option Addr} {xs : List Int} (h : Rr w a xs) (hb : Below w.heap.size w w') : Rr w' a xs := by
  rcases h with h | ⟨b, off, rfl, hlt, hc⟩
  · exact .inl h
  · exact .inr ⟨b, off, rfl, Nat.lt_of_lt_of_le hlt hb.size, fun i hi => by rw [hb.cell hlt]; exact hc i hi⟩
theorem Rr.at {w : World} {a : Option Addr} {xs : List Int} (h : Rr w a xs) (i : Nat) (hi : i < xs.length) : ∃ b off, a = some ⟨b, off, none⟩ ∧ b < w.heap.size ∧ w.cell? ⟨b, off + i, none⟩ = some (.int .i32 (xs.getD i 0)) := by
  rcases h with rfl | ⟨b, off, rfl, hlt, hc⟩
  · simp at hi
  · exact ⟨b, off, rfl, hlt, hc i hi⟩
def ints32 (xs : List Nat) : List Int := xs.map fun (n : Nat) => (n : Int)
theorem rr_of_row {w : World} {B n : Nat} {v : Value} {xs : List Nat} (h : w.ownsRow B 21 1 v n (runes xs)) : ∃ a cap, v = .slice a n cap ∧ n = (ints32 xs).length ∧ Rr w a (ints32 xs) := by
  have hlen : xs.length = n := by have := h.1; rw [runes_len, Nat.mul_one] at this; exact this
  have hl2 : (ints32 xs).length = n := by unfold ints32; rw [List.length_map]; exact hlen
  rcases h.2 with ⟨rfl, rfl⟩ | ⟨g, cap, cur, rfl, _, hg, _⟩
  · exact ⟨none, 0, rfl, hl2.symm, .inl (List.eq_nil_of_length_eq_zero hl2)⟩
  · refine ⟨_, cap, rfl, hl2.symm, .inr ⟨g, 0, rfl, (Array.getElem?_eq_some_iff.1 hg).1, fun i hi => ?_⟩⟩
    have hi2 : i < xs.length := by omega
    have hc := h.cells (g := g) rfl i (.int .i32 ((ints32 xs).getD i 0)) (by
      unfold runes ints32
      rw [List.getElem?_map, List.getElem?_eq_getElem hi2, List.getD_eq_getElem?_getD, List.getElem?_map, List.getElem?_eq_getElem hi2]; rfl)
    have e : (⟨g, 0, none⟩ : Addr).add i = ⟨g, 0 + i, none⟩ := by cases i <;> simp [Addr.add]
    rw [e] at hc; exact hc

theorem list_ne_of (xs ys : List Int) (i : Nat) (h : xs.getD i 0 ≠ ys.getD i 0) : decide (xs = ys) = false := decide_eq_false (fun e => h (by rw [e]))
theorem list_eq_of (xs ys : List Int) (hl : xs.length = ys.length) (h : ∀ i, i < xs.length → xs.getD i 0 = ys.getD i 0) : decide (xs = ys) = true := by
  refine decide_eq_true (List.ext_getElem hl fun i h1 h2 => ?_)
  have := h i h1
  rw [List.getD_eq_getElem?_getD, List.getD_eq_getElem?_getD, List.getElem?_eq_getElem h1, List.getElem?_eq_getElem h2] at this
  exact this

set_option maxHeartbeats 2000000 in
theorem is_any (xs ys : List Int) (a a' : Option Addr) (cap cap' : Nat) (w : World) (hx : Rr w a xs) (hy : Rr w a' ys) (hs : xs.length ≤ 1000000) (hs' : ys.length ≤ 1000000) :
    Calls Tryd.prog 9 #[.slice a xs.length cap, .slice a' ys.length cap'] w fun e w' => e = .returned (.bool (decide (xs = ys))) ∧ Below w.heap.size w w' := by
  have HX := Lib.hid (fun i hi => hx.at i hi)
  have HY := Lib.hid (fun i hi => hy.at i hi)
  clear hx hy
  by_cases hl : xs.length = ys.length
  · have hres : Hid ((∀ i, i < xs.length → xs.getD i 0 = ys.getD i 0) → decide (xs = ys) = true) := fun h => list_eq_of xs ys hl h
    have hno : Hid (∀ i, xs.getD i 0 ≠ ys.getD i 0 → decide (xs = ys) = false) := fun i h => list_ne_of xs ys i h
    have hlh := Lib.hid hl
    have hne : ((xs.length : Int) != (ys.length : Int)) = false := by rw [bne_eq_false_iff_eq]; omega
    generalize hd : decide (xs = ys) = res at *
    generalize hn : xs.length = n at *
    generalize hm : ys.length = m at *
    have hnm := Lib.hid hl
    clear hl hd hn hm hlh
    go_enter Tryd.func9, Tryd.ntmps9
    go_wp2
    go_loopw [5] (fun c wr => ∃ k : Nat, k ≤ n ∧ c = .int .i64 k ∧ Below w.heap.size w wr ∧ Hid (∀ i, i < k → xs.getD i 0 = ys.getD i 0)) (fun c _ => n - (intOf c).toNat)
    case atStart => exact ⟨0, Nat.zero_le _, rfl, Below.refl _ _, fun i hi => absurd hi (Nat.not_lt_zero _)⟩
    case round =>
      obtain ⟨k, hk, rfl, hbel, HE⟩ := hrel
      by_cases hlt : k < n
      · obtain ⟨b, off, rfl, hb1, hc1⟩ := HX.out k hlt
        obtain ⟨b', off', rfl, hb2, hc2⟩ := HY.out k (by have := hnm.out; omega)
        have c1 := hbel.cell (p := ⟨b, off + k, none⟩) hb1
        have c2 := hbel.cell (p := ⟨b', off' + k, none⟩) hb2
        rw [hc1] at c1
        rw [hc2] at c2
        have hkm : (k : Int) < (m : Int) := by have := hnm.out; omega
        have hkn : (k : Int) < (n : Int) := by omega
        clear hc1 hc2
        by_cases he : xs.getD k 0 = ys.getD k 0
        · have hq : (xs.getD k 0 != ys.getD k 0) = false := by rw [bne_eq_false_iff_eq]; exact he
          have HE2 : Hid (∀ i, i < k + 1 → xs.getD i 0 = ys.getD i 0) := fun i hi => by
            by_cases g : i = k
            · rw [g]; exact he
            · exact HE.out i (by omega)
          clear he HE
          generalize xs.getD k 0 = x at *
          generalize ys.getD k 0 = y at *
          go_wp2
          go_region
          all_goals go_wp2
          all_goals go_roundw
          case rel => exact ⟨k + 1, by omega, by go_num, hbel.drew, HE2⟩
          case measure => simp [intOf]; omega
        · have hq : (xs.getD k 0 != ys.getD k 0) = true := by rw [bne_iff_ne]; exact he
          have hr := hno.out k he
          have HR := Lib.hid hr
          clear he HE hr
          generalize xs.getD k 0 = x at *
          generalize ys.getD k 0 = y at *
          go_wp2
          go_region
          all_goals go_wp2
          all_goals go_ret
          all_goals rw [HR.out]
          all_goals exact ⟨rfl, hbel.drew⟩
      · obtain rfl : k = n := by omega
        have hr := hres.out HE.out
        have HR := Lib.hid hr
        clear hr
        go_wp2
        go_ret
        rw [HR.out]
        exact ⟨rfl, hbel⟩
  · have hr : decide (xs = ys) = false := decide_eq_false (fun e => hl (by rw [e]))
    have hne : ((xs.length : Int) != (ys.length : Int)) = true := by rw [bne_iff_ne]; omega
    rw [hr]
    generalize xs.length = n at *
    generalize ys.length = m at *
    clear hr HX HY
    go_enter Tryd.func9, Tryd.ntmps9
    go_wp2
    go_ret
    exact ⟨rfl, Below.refl _ _⟩
end Go.Proofs.YtpebgggdpgppdaaDoor
