/-
  Helper: the walk of number.roundsUp.
-/
import Derived.Test.YtpankmaljafnnaaGreatDoorDcCmp2
namespace Go.Proofs.YtpankmaljafnnaaGreatDoor
open Go.RowKit
set_option linter.unusedVariables false
set_option linter.unusedSimpArgs false

theorem Rb.dropK {w : World} {b off : Nat} {l : List UInt8} (h : Rb w (some ⟨b, off, none⟩) l) (k : Nat) : Rb w (some ⟨b, off + k, none⟩) (l.drop k) := by
  rcases h with h | ⟨b', o', h1, hlt, hc⟩
  · left; rw [h, List.drop_nil]
  · cases h1
    refine .inr ⟨b, off + k, rfl, hlt, fun i hi => ?_⟩
    rw [List.length_drop] at hi
    have := hc (k + i) (by omega)
    rw [show off + (k + i) = off + k + i by omega] at this
    rw [this, List.getD_eq_getElem?_getD, List.getD_eq_getElem?_getD, List.getElem?_drop]
/-- whether the kept digits grow by one -/
def rupL (l : List UInt8) (k : Nat) : Bool := if cmpL (l.drop k) [53] = 0 then decide (0 < k) && decide (((l.getD (k - 1) 0).toNat - 48) % 2 = 1) else decide (0 < cmpL (l.drop k) [53])
set_option maxRecDepth 100000 in
set_option maxHeartbeats 1000000 in
theorem rup_neg (b : Bool) (l : List UInt8) (e : Int) (a : Option Addr) (cap : Nat) (k : Int) (hk : k < 0) (w : World) :
    Calls Tryz.prog 79 #[.agg (nvl b a l.length cap e).toArray, .int .i64 k] w (fun en w' => en = .returned (.bool false) ∧ Below w.heap.size w w') := by
  obtain ⟨wb, hwb⟩ : ∃ wb, w.alloc (.cells (nvl b a l.length cap e).toArray 61) = wb := ⟨_, rfl⟩
  have hbel : Hid (Below w.heap.size w wb) := by rw [← hwb]; exact (Below.refl _ w).alloc (Nat.le_refl _) _
  go_enter Tryz.func79, Tryz.ntmps79
  go_wp2
  go_ret
  exact ⟨rfl, hbel.out⟩
set_option maxRecDepth 100000 in
set_option maxHeartbeats 1000000 in
theorem rup_any (b : Bool) (l : List UInt8) (e : Int) (a : Option Addr) (cap : Nat) (k : Nat) (hk : k < l.length) (hcap : l.length ≤ cap) (hl : l.length ≤ 100000) (hA : AD l) (w : World) (hr : Rb w a l) :
    Calls Tryz.prog 79 #[.agg (nvl b a l.length cap e).toArray, .int .i64 (k : Int)] w (fun en w' => en = .returned (.bool (rupL l k)) ∧ Below w.heap.size w w') := by
  obtain ⟨wb, hwb⟩ : ∃ wb, w.alloc (.cells (nvl b a l.length cap e).toArray 61) = wb := ⟨_, rfl⟩
  obtain ⟨N, hN⟩ : ∃ N, w.heap.size = N := ⟨_, rfl⟩
  have hB : Hid (Blk wb N 61 (nvl b a l.length cap e)) := by rw [← hwb, ← hN]; exact Blk.new w _ _
  have hbel : Below w.heap.size w wb := by rw [← hwb]; exact (Below.refl _ w).alloc (Nat.le_refl _) _
  have hrb : Rb wb a l := hr.go hbel
  obtain ⟨gb, off, rfl, _, hc⟩ := hrb.at 0 (by omega)
  obtain ⟨wl, hwl⟩ : ∃ wl, wb.alloc (.cells #[.int .u8 53] 5) = wl := ⟨_, rfl⟩
  obtain ⟨G, hG⟩ : ∃ G, wb.heap.size = G := ⟨_, rfl⟩
  have hbl : Below wb.heap.size wb wl := by rw [← hwl]; exact (Below.refl _ wb).alloc (Nat.le_refl _) _
  have hrow : Row wl G 5 [53] := by rw [← hwl, ← hG]; exact Row.new wb _ [53]
  have hrl : Rb wl (some ⟨gb, off, none⟩) l := hrb.go hbl
  have c1 := hB.out.cell 1 (.slice (some ⟨gb, off, none⟩) l.length cap) rfl
  have d1 : wl.cell? ⟨N, 1, none⟩ = some (.slice (some ⟨gb, off, none⟩) l.length cap) := (hB.out.go hbl hB.out.lt).cell 1 _ rfl
  have hfb : Hid (Below w.heap.size w wl) := hbel.trans (hbl.mono hbel.size)
  have HC : Hid (Calls Tryz.prog 74 #[.slice (some ⟨gb, off + k, none⟩) (l.length - k) (cap - k), .slice (some ⟨G, 0, none⟩) 1 1] wl fun en w' => en = .returned (.int .i64 (cmpL (l.drop k) [53])) ∧ wl = w') := by
    have := cmpD_any (l.drop k) [53] (some ⟨gb, off + k, none⟩) (some ⟨G, 0, none⟩) (cap - k) 1 (by rw [List.length_drop]; omega) (by decide) (by rw [List.length_drop]; omega) (by decide) wl (hrl.dropK k) hrow.rb
    rw [List.length_drop] at this
    exact this
  have hvals := cmpL_vals (l.drop k) [53]
  have HD : Hid (0 < k → wl.cell? ⟨gb, off + (k - 1), none⟩ = some (.int .u8 ((l.getD (k - 1) 0).toNat : Int)) ∧ 48 ≤ (l.getD (k - 1) 0).toNat ∧ (l.getD (k - 1) 0).toNat ≤ 57) := fun h => by
    obtain ⟨g2, o2, h2, _, hc2⟩ := hrl.at (k - 1) (by omega)
    cases h2
    exact ⟨hc2, hA.at (k - 1) (by omega)⟩
  have HF : Hid (∀ r, rupL l k = r → (fun (en : Ending) (w' : World) => en = .returned (.bool (rupL l k)) ∧ Below w.heap.size w w') (Ending.returned (.bool r)) wl) := fun r h => ⟨by rw [h], hfb.out⟩
  generalize (fun (en : Ending) (w' : World) => en = .returned (.bool (rupL l k)) ∧ Below w.heap.size w w') = Po at *
  unfold rupL at HF
  clear hbel hfb hrb hc hbl hrow hrl hB hA hr
  generalize cmpL (l.drop k) [53] = c at *
  generalize (l.getD (k - 1) 0).toNat = dg at *
  generalize l.length = n at *
  go_enter Tryz.func79, Tryz.ntmps79
  go_wp2_with fail
  clear c1 hwb hwl hN hG
  refine HC.out.mono ?_
  rintro en w' ⟨rfl, rfl⟩
  clear HC
  by_cases c0 : c = 0
  · subst c0
    by_cases hk0 : 0 < k
    · obtain ⟨x1, x2, x3⟩ := HD.out hk0
      have hfin := HF.out (decide ((dg - 48) % 2 = 1)) (by rw [if_pos rfl, decide_eq_true hk0]; rfl)
      obtain ⟨u, hu⟩ : ∃ u : Nat, dg = u + 48 := ⟨dg - 48, by omega⟩
      obtain ⟨j, rfl⟩ : ∃ j : Nat, k = j + 1 := ⟨k - 1, by omega⟩
      have hfin2 : Hid (Po (Ending.returned (.bool (((u : Int) % 2) == 1))) wl) := by
        show Po _ _
        have : (((u : Int) % 2) == 1) = decide ((dg - 48) % 2 = 1) := by
          rw [hu, Nat.add_sub_cancel]
          by_cases h : u % 2 = 1
          · rw [decide_eq_true h, beq_iff_eq]; omega
          · rw [decide_eq_false h, beq_eq_false_iff_ne]; omega
        rw [this]; exact hfin
      have x4 : wl.cell? ⟨gb, off + j, none⟩ = some (.int .u8 ((u : Int) + 48)) := by rw [show j + 1 - 1 = j from rfl] at x1; rw [x1, hu]; rfl
      have k1 : (0 : Int) < ((j + 1 : Nat) : Int) := by omega
      clear HF HD x1 hfin hvals
      go_wp2
      exact hfin2.out
    · obtain rfl : k = 0 := by omega
      have hfin := Lib.hid (HF.out false (by rw [if_pos rfl]; rfl))
      clear HF HD hvals
      go_wp2
      exact hfin.out
  · have hfin := Lib.hid (HF.out (decide (0 < c)) (if_neg c0))
    have hc1 : (c == 0) = false := by simpa using c0
    have hc2 : (c != 0) = true := by rw [bne, hc1]; rfl
    clear HF HD
    go_wp2
    exact hfin.out
end Go.Proofs.YtpankmaljafnnaaGreatDoor
