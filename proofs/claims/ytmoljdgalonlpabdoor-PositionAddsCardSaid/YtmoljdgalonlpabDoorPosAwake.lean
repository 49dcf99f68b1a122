/-
  Helper: position.Of in the words of what reads it; the law's own examples ('awake') hold.
-/
import Derived.Test.YtmoljdgalonlpabDoorPosOf
import Derived.Test.YtmoljdgalonlpabDoorPosAt
import Derived.Test.YtmoljdgalonlpabDoorIndent
namespace Go.Proofs.YtmoljdgalonlpabDoor
open Go.RowKit
set_option linter.unusedVariables false

theorem rd_of_row {w : World} {B n : Nat} {v : Value} {f : Nat → Nat} {xs : List Nat} (h : w.ownsRow B 3 1 v n (ints xs)) (hf : ∀ i, i < n → xs.getD i 0 = f i) : ∃ a cap, v = .slice a n cap ∧ Rd w a n f := by
  have hlen : xs.length = n := by have := h.1; rw [ints_len, Nat.mul_one] at this; exact this
  rcases h.2 with ⟨rfl, rfl⟩ | ⟨g, cap, cur, rfl, _, hg, _⟩
  · exact ⟨none, 0, rfl, .inl rfl⟩
  · refine ⟨_, cap, rfl, .inr ⟨g, 0, rfl, (Array.getElem?_eq_some_iff.1 hg).1, fun i hi => ?_⟩⟩
    have hc := h.cells (g := g) rfl i (.int .i64 ((f i : Nat) : Int)) (by
      unfold ints
      rw [List.getElem?_map, List.getElem?_eq_getElem (by omega), ← hf i hi, List.getD_eq_getElem?_getD, List.getElem?_eq_getElem (by omega)]; rfl)
    have e : (⟨g, 0, none⟩ : Addr).add i = ⟨g, 0 + i, none⟩ := by cases i <;> simp [Addr.add]
    rw [e] at hc; exact hc

def OfPost (s : ByteArray) (w : World) (e : Ending) (w' : World) : Prop := ∃ a cap, e = .returned (.agg #[.string s, .slice a (nln s) cap]) ∧ Rd w' a (nln s) (nlf s) ∧ Below w.heap.size w w'
theorem of_rd (s : ByteArray) (w : World) (hs : s.size ≤ 100000) : Calls Tryd.prog 10 #[.string s] w (OfPost s w) := by
  refine (of_any s w hs).mono ?_
  rintro e w' ⟨v, rfl, hown, hb⟩
  obtain ⟨a, cap, rfl, hr⟩ := rd_of_row hown (f := nlf s) (fun i _ => rfl)
  exact ⟨a, cap, rfl, hr, hb⟩

/-- the chapter's example -/
def ex : ByteArray := ⟨#[97, 98, 13, 10, 10, 99]⟩
theorem ex_n : nln ex = 2 := by decide
theorem ex_c4 : cnt ex.data.toList 4 = 1 := by decide
theorem ex_c3 : cnt ex.data.toList 3 = 0 := by decide
theorem ex_b0 : begS ex 0 = 0 := by decide
theorem ex_b1 : begS ex 1 = 4 := by decide
theorem ex_b2 : begS ex 2 = 5 := by decide
theorem ex_f0 : finS ex 0 = 3 := by decide
theorem ex_f2 : finS ex 2 = 6 := by decide

theorem ex_at4 (a : Option Addr) (cap : Nat) (w : World) (hr : Rd w a (nln ex) (nlf ex)) : Calls Tryd.prog 5 #[.agg #[.string ex, .slice a (nln ex) cap], .int .i64 4] w fun e w' => e = .returned (.tuple #[.int .i64 1, .int .i64 0, .int .i64 0]) ∧ Below w.heap.size w w' := by
  have h := at_some ex a cap w (by decide) hr 4 (by decide)
  rw [ex_c4, ex_b1] at h
  exact h
theorem ex_at3 (a : Option Addr) (cap : Nat) (w : World) (hr : Rd w a (nln ex) (nlf ex)) : Calls Tryd.prog 5 #[.agg #[.string ex, .slice a (nln ex) cap], .int .i64 3] w fun e w' => e = .returned (.tuple #[.int .i64 0, .int .i64 3, .int .i64 0]) ∧ Below w.heap.size w w' := by
  have h := at_some ex a cap w (by decide) hr 3 (by decide)
  rw [ex_c3, ex_b0] at h
  exact h
theorem ex_off (a : Option Addr) (cap : Nat) (w : World) (hr : Rd w a (nln ex) (nlf ex)) : Calls Tryd.prog 7 #[.agg #[.string ex, .slice a (nln ex) cap], .int .i64 2, .int .i64 1] w fun e w' => e = .returned (.tuple #[.int .i64 6, .int .i64 0]) ∧ Below w.heap.size w w' := by
  have h := offset_some ex a cap w (by decide) hr 2 (by decide) 1
  rw [ex_b2, ex_f2] at h
  exact h
theorem ex_line (a : Option Addr) (cap : Nat) (w : World) (hr : Rd w a (nln ex) (nlf ex)) : Calls Tryd.prog 6 #[.agg #[.string ex, .slice a (nln ex) cap], .int .i64 0] w fun e w' => e = .returned (.tuple #[.string ⟨#[97, 98]⟩, .int .i64 0]) ∧ Below w.heap.size w w' := by
  have h := line_some ex a cap w (by decide) hr 0 (by decide)
  rw [ex_b0, ex_f0] at h
  exact h
theorem ex_indent (w : World) : Calls Tryd.prog 17 #[.string ⟨#[32, 32, 9, 120]⟩] w fun e w' => e = .returned (.tuple #[.int .i64 2, .bool true]) ∧ w = w' := by
  exact indent_any ⟨#[32, 32, 9, 120]⟩ w (by decide)
theorem ex_count (a : Option Addr) (cap : Nat) (w : World) : Calls Tryd.prog 9 #[.agg #[.string ex, .slice a (nln ex) cap]] w fun e w' => e = .returned (.int .i64 3) ∧ Below w.heap.size w w' := by
  exact count_any ex a (nln ex) cap w (by decide)

/-- the variable that holds the lines: its box at block k, and what they read -/
def Bx (w0 : World) (k : Nat) (s : ByteArray) (a : Option Addr) (cap : Nat) (w : World) : Prop := w.cell? ⟨k, 0, none⟩ = some (.string s) ∧ w.cell? ⟨k, 1, none⟩ = some (.slice a (nln s) cap) ∧ Kept w0 k a (nln s) (nlf s) w
theorem Bx.keep {w0 w w' : World} {k : Nat} {s : ByteArray} {a : Option Addr} {cap : Nat} (h : Bx w0 k s a cap w) (hb : Below w.heap.size w w') : Bx w0 k s a cap w' := keep2 hb h
theorem Bx.rd {w0 w : World} {k : Nat} {s : ByteArray} {a : Option Addr} {cap : Nat} (h : Bx w0 k s a cap w) : Rd w a (nln s) (nlf s) := h.2.2.1
theorem Bx.bel {w0 w : World} {k : Nat} {s : ByteArray} {a : Option Addr} {cap : Nat} (h : Bx w0 k s a cap w) : Below k w0 w := h.2.2.2.1
/-- at the variable's making -/
theorem Bx.new {w1 : World} {s : ByteArray} {a : Option Addr} {cap : Nat} {t : TypeId} (hr : Rd w1 a (nln s) (nlf s)) : Bx w1 w1.heap.size s a cap (w1.alloc (.cells #[.string s, .slice a (nln s) cap] t)) := by
  refine ⟨?_, ?_, hr.alloc _, (Below.refl _ w1).alloc (Nat.le_refl _) _, by simp⟩
  · rw [World.cell?_alloc_at _ _ _ _ rfl]; rfl
  · rw [World.cell?_alloc_at _ _ _ _ rfl]; rfl

set_option maxHeartbeats 1000000 in
theorem awake_any (w : World) : Calls Tryd.prog 8 #[] w fun e w' => e = .returned (.bool true) ∧ Below w.heap.size w w' := by
  go_enter Tryd.func8, Tryd.ntmps8
  go_wp2_with fail
  refine (of_rd ex _ (by decide)).mono ?_
  rintro e w1 ⟨a, cap, rfl, hr, hb⟩
  go_wp2_with fail
  have hB := Bx.new (cap := cap) (t := 24) hr
  refine (ex_at4 a cap _ hB.rd).mono ?_
  rintro e w2 ⟨rfl, h2⟩
  obtain ⟨c0, c1, HK⟩ := hB.keep h2
  have HK2 := Lib.hid HK
  clear HK hB h2
  go_wp2_with fail
  have hB : Bx w1 w1.heap.size ex a cap w2 := ⟨c0, c1, HK2.out⟩
  clear c0 c1 HK2
  refine (ex_at3 a cap _ hB.rd).mono ?_
  rintro e w3 ⟨rfl, h2⟩
  obtain ⟨c0, c1, HK⟩ := hB.keep h2
  have HK2 := Lib.hid HK
  clear HK hB h2
  go_wp2_with fail
  have hB : Bx w1 w1.heap.size ex a cap w3 := ⟨c0, c1, HK2.out⟩
  clear c0 c1 HK2
  refine (ex_off a cap _ hB.rd).mono ?_
  rintro e w4 ⟨rfl, h2⟩
  obtain ⟨c0, c1, HK⟩ := hB.keep h2
  have HK2 := Lib.hid HK
  clear HK hB h2
  go_wp2_with fail
  have hB : Bx w1 w1.heap.size ex a cap w4 := ⟨c0, c1, HK2.out⟩
  clear c0 c1 HK2
  refine (ex_line a cap _ hB.rd).mono ?_
  rintro e w5 ⟨rfl, h2⟩
  obtain ⟨c0, c1, HK⟩ := hB.keep h2
  have HK2 := Lib.hid HK
  clear HK hB h2
  go_wp2_with fail
  refine (ex_indent _).mono ?_
  rintro e w6 ⟨rfl, rfl⟩
  go_wp2_with fail
  refine (ex_count a cap _).mono ?_
  rintro e w7 ⟨rfl, h7⟩
  go_wp2_with fail
  go_ret
  refine ⟨rfl, hb.trans ?_⟩
  have hB : Bx w1 w1.heap.size ex a cap w5 := ⟨c0, c1, HK2.out⟩
  have hb5 := hB.bel
  refine (hb5.mono hb.size).trans (h7.mono ?_)
  have := hb5.size
  have := hb.size
  omega
end Go.Proofs.YtmoljdgalonlpabDoor
