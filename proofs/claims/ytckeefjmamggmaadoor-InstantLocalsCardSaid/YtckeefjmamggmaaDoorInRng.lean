/-
  Helper: the walks of inRange, seconds, fraction, written and canonical.
-/
import Derived.Test.YtckeefjmamggmaaDoorInTab
import Derived.Test.YtckeefjmamggmaaDoorInGrp
namespace Go.Proofs.YtckeefjmamggmaaDoor
open Go.RowKit
set_option linter.unusedVariables false

/-- a text's contents by value -/
def tv (sh : Nat) (f : List Nat) (na zo : Nat) : Value := .agg (tx sh f na zo).toArray
def IR (sh : Nat) (f : List Nat) : Prop := (∀ k, k < 8 → f.getD k 0 ≤ lim k) ∧ (sh = 2 ∨ IsD (f.getD 0 0 : Nat) (f.getD 1 0 : Nat) (f.getD 2 0 : Nat))
def BoolP (b : Bool) (w : World) (e : Ending) (w' : World) : Prop := e = .returned (.bool b) ∧ Below w.heap.size w w'
theorem tx_0 (sh : Nat) (f : List Nat) (na zo : Nat) : (tx sh f na zo)[0]? = some (.int .i64 sh) := rfl
theorem tx_9 (sh : Nat) (f : List Nat) (na zo : Nat) (hf : f.length = 8) : (tx sh f na zo)[9]? = some (.int .i64 na) := by
  unfold tx
  rw [List.getElem?_cons_succ, List.getElem?_append_right (by simp; omega)]
  simp [hf]
theorem tx_10 (sh : Nat) (f : List Nat) (na zo : Nat) (hf : f.length = 8) : (tx sh f na zo)[10]? = some (.int .u8 zo) := by
  unfold tx
  rw [List.getElem?_cons_succ, List.getElem?_append_right (by simp; omega)]
  simp [hf]
set_option maxRecDepth 100000 in
set_option maxHeartbeats 4000000 in
theorem inRange_any (sh : Nat) (f : List Nat) (na zo : Nat) (b : Bool) (hf : f.length = 8) (hf2 : ∀ k, f.getD k 0 ≤ 1000000000) (hb : b = true ↔ IR sh f) (hsh : sh ≤ 3) (w : World) (hT : Tabs w) :
    Calls Tryd.prog 30 #[tv sh f na zo] w (BoolP b w) := by
  have HF : Hid (∀ c w', c = b → Below w.heap.size w w' → BoolP b w (.returned (.bool c)) w') := fun c w' h1 h2 => by subst h1; exact ⟨rfl, h2⟩
  generalize hPo : BoolP b w = Po at *
  clear hPo
  have hB0 := Blk.new w 43 (tx sh f na zo)
  have hbel : Hid (Below w.heap.size w (w.alloc (.cells (tx sh f na zo).toArray 43))) := (Below.refl _ w).alloc (Nat.le_refl _) _
  have hsz : Hid ((w.alloc (.cells (tx sh f na zo).toArray 43)).heap.size = w.heap.size + 1) := by show _ = _; simp
  have hTb : Hid (Tabs (w.alloc (.cells (tx sh f na zo).toArray 43))) := hT.go hbel.out
  have hB : Hid (Blk (w.alloc (.cells (tx sh f na zo).toArray 43)) w.heap.size 43 (tx sh f na zo)) := hB0
  have hfh := Lib.hid hf
  have hf2h := Lib.hid hf2
  have hbh := Lib.hid hb
  clear hB0 hT hf hf2 hb
  unfold tv
  go_enter Tryd.func30, Tryd.ntmps30
  go_wp2
  generalize w.alloc (.cells (tx sh f na zo).toArray 43) = wb at *
  go_loopw [6] (fun i wr => ∃ (k q : Nat), k ≤ 8 ∧ i = .int .i64 k ∧ wr = wb.drewN q ∧ Hid (∀ j, j < k → f.getD j 0 ≤ lim j)) (fun i _ => 8 - (intOf i).toNat)
  case atStart => exact ⟨0, 0, by omega, rfl, rfl, fun j hj => absurd hj (by omega)⟩
  case round =>
    obtain ⟨k, q, hk, rfl, rfl, hall⟩ := hrel
    by_cases hlt : k < 8
    · have c1 : wb.cell? ⟨w.heap.size, 1 + k, none⟩ = some (.int .i64 (f.getD k 0 : Nat)) := hB.out.cell (1 + k) _ (tx_f sh f na zo k hfh.out hlt)
      have c2 := hTb.out.2.2.1 k hlt
      have hkI : (k : Int) < 8 := by omega
      have hfb := hf2h.out k
      by_cases hle : f.getD k 0 ≤ lim k
      · have hall2 : Hid (∀ j, j < k + 1 → f.getD j 0 ≤ lim j) := fun j hj => by
          by_cases e : j = k
          · rw [e]; exact hle
          · exact hall.out j (by omega)
        have hd : ((f.getD k 0 : Nat) : Int) ≤ ((lim k : Nat) : Int) := by omega
        clear hall hle
        generalize f.getD k 0 = x at *
        generalize lim k = y at *
        go_wp2_with fail
        go_quiet (fail)
        go_wp2
        go_roundw
        case rel => exact ⟨k + 1, q + nq, by omega, by go_num, by first | rfl | (rw [drewN_add]), hall2⟩
        case measure => simp [intOf]; omega
      · have hbf : b = false := by
          cases hbb : b with
          | false => rfl
          | true => exact absurd ((hbh.out.1 hbb).1 k hlt) hle
        have hfin := Lib.hid (fun n => HF.out false ((wb.drewN q).drewN n) hbf.symm (Below.drewN (Below.drewN hbel.out q) n))
        have hd : ((lim k : Nat) : Int) < ((f.getD k 0 : Nat) : Int) := by omega
        clear hall hle hbf
        generalize f.getD k 0 = x at *
        generalize lim k = y at *
        go_wp2_with fail
        go_quiet (fail)
        go_wp2
        exact hfin.out nq
    · obtain rfl : k = 8 := by omega
      have c0 : (wb.drewN q).cell? ⟨w.heap.size, 0, none⟩ = some (.int .i64 sh) := hB.out.cell 0 _ rfl
      by_cases h2 : sh = 2
      · have hbt : b = true := hbh.out.2 ⟨fun k hk => hall.out k hk, .inl h2⟩
        have hfin := Lib.hid (HF.out true (wb.drewN q) hbt.symm (Below.drewN hbel.out q))
        subst h2
        clear hbt
        go_wp2
        exact hfin.out
      · have hne : ((sh : Int) == 2) = false := by rw [beq_eq_false_iff_ne]; omega
        have d1 : (wb.drewN q).cell? ⟨w.heap.size, 1, none⟩ = some (.int .i64 (f.getD 0 0 : Nat)) := hB.out.cell 1 _ (tx_f sh f na zo 0 hfh.out (by omega))
        have d2 : (wb.drewN q).cell? ⟨w.heap.size, 2, none⟩ = some (.int .i64 (f.getD 1 0 : Nat)) := hB.out.cell 2 _ (tx_f sh f na zo 1 hfh.out (by omega))
        have d3 : (wb.drewN q).cell? ⟨w.heap.size, 3, none⟩ = some (.int .i64 (f.getD 2 0 : Nat)) := hB.out.cell 3 _ (tx_f sh f na zo 2 hfh.out (by omega))
        by_cases hD : IsD (f.getD 0 0 : Nat) (f.getD 1 0 : Nat) (f.getD 2 0 : Nat)
        · have hbt : b = true := hbh.out.2 ⟨fun k hk => hall.out k hk, .inr hD⟩
          have hfin := Lib.hid (fun n => HF.out true ((wb.drewN q).drewN n) hbt.symm (Below.drewN (Below.drewN hbel.out q) n))
          have HY := Lib.hid (days_yes _ _ _ (wb.drewN q) hTb.out.2.1 hD)
          clear hbt hD h2 c0
          have c0 : (wb.drewN q).cell? ⟨w.heap.size, 0, none⟩ = some (.int .i64 sh) := hB.out.cell 0 _ rfl
          generalize dn (f.getD 0 0 : Nat) (f.getD 1 0 : Nat) (f.getD 2 0 : Nat) = dd at *
          go_wp2_with fail
          refine HY.out.mono ?_
          rintro e w3 ⟨rfl, n, rfl⟩
          go_wp2
          have h9 := hfin.out n
          rw [drewN_add] at h9
          exact h9
        · have hbf : b = false := by
            cases hbb : b with
            | false => rfl
            | true =>
              rcases (hbh.out.1 hbb).2 with h | h
              · exact absurd h h2
              · exact absurd h hD
          have hfin := Lib.hid (fun n => HF.out false ((wb.drewN q).drewN n) hbf.symm (Below.drewN (Below.drewN hbel.out q) n))
          have HY := Lib.hid (days_no _ _ _ (wb.drewN q) hTb.out.2.1 hD)
          clear hbf hD h2
          go_wp2_with fail
          refine HY.out.mono ?_
          rintro e w3 ⟨rfl, n, rfl⟩
          go_wp2
          have h9 := hfin.out n
          rw [drewN_add] at h9
          exact h9
end Go.Proofs.YtckeefjmamggmaaDoor
