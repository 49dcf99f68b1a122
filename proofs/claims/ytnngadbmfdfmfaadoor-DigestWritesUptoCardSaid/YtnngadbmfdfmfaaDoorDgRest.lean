/-
  Helper: what a digest's state holds of the bytes so far; copying a string into it.
-/
import Derived.Test.YtnngadbmfdfmfaaDoorDgAdd
namespace Go.Proofs.YtnngadbmfdfmfaaDoor
open Go.RowKit
set_option linter.unusedVariables false

/-- the bytes that lie in rest -/
def restF (L : List UInt8) (j : Nat) : UInt8 :=
  if j < 64 then (if j < L.length % 64 then L.getD (64 * (L.length / 64) + j) 0 else if 64 ≤ L.length then L.getD (64 * (L.length / 64) - 64 + j) 0 else 0) else 0
/-- bytes laid over others -/
def ovr (R : Nat → UInt8) (off : Nat) (x : List UInt8) (j : Nat) : UInt8 := if off ≤ j ∧ j < off + x.length then x.getD (j - off) 0 else R j
theorem getD_l (x y : List UInt8) (i : Nat) (h : i < x.length) : (x ++ y).getD i 0 = x.getD i 0 := by
  rw [List.getD_eq_getElem?_getD, List.getD_eq_getElem?_getD, List.getElem?_append_left h]
theorem getD_r (x y : List UInt8) (i : Nat) (h : x.length ≤ i) : (x ++ y).getD i 0 = y.getD (i - x.length) 0 := by
  rw [List.getD_eq_getElem?_getD, List.getD_eq_getElem?_getD, List.getElem?_append_right h]
theorem rest_step (L x : List UInt8) (h1 : 0 < x.length) (h2 : L.length % 64 + x.length ≤ 64) : ovr (restF L) (L.length % 64) x = restF (L ++ x) := by
  funext j
  unfold ovr restF
  rw [List.length_append]
  by_cases hj : j < 64
  · rw [if_pos hj, if_pos hj]
    by_cases hc : L.length % 64 + x.length < 64
    · have e1 : (L.length + x.length) / 64 = L.length / 64 := by omega
      have e2 : (L.length + x.length) % 64 = L.length % 64 + x.length := by omega
      rw [e1, e2]
      by_cases ha : L.length % 64 ≤ j ∧ j < L.length % 64 + x.length
      · rw [if_pos ha, if_pos ha.2, getD_r _ _ _ (by omega)]
        congr 1; omega
      · rw [if_neg ha]
        by_cases hb : j < L.length % 64
        · rw [if_pos hb, if_pos (show j < L.length % 64 + x.length by omega), getD_l _ _ _ (by omega)]
        · rw [if_neg hb, if_neg (show ¬ j < L.length % 64 + x.length by omega)]
          by_cases hd : 64 ≤ L.length
          · rw [if_pos hd, if_pos (show 64 ≤ L.length + x.length by omega), getD_l _ _ _ (by omega)]
          · rw [if_neg hd, if_neg (show ¬ 64 ≤ L.length + x.length by omega)]
    · have e1 : (L.length + x.length) / 64 = L.length / 64 + 1 := by omega
      have e2 : (L.length + x.length) % 64 = 0 := by omega
      rw [e1, e2, if_neg (show ¬ j < 0 by omega), if_pos (show 64 ≤ L.length + x.length by omega)]
      by_cases ha : L.length % 64 ≤ j ∧ j < L.length % 64 + x.length
      · rw [if_pos ha, getD_r _ _ _ (by omega)]
        congr 1; omega
      · rw [if_neg ha, if_pos (by omega), getD_l _ _ _ (by omega)]
        congr 1
  · rw [if_neg hj, if_neg (by omega), if_neg hj]
theorem rest_full (L : List UInt8) (h : L.length % 64 = 0) (h2 : 64 ≤ L.length) : restF L = blk L (L.length / 64 - 1) := by
  funext j
  unfold restF blk
  by_cases hj : j < 64
  · rw [if_pos hj, if_pos hj, if_neg (by omega), if_pos h2]
    congr 1; omega
  · rw [if_neg hj, if_neg hj]
theorem stA_full (L x : List UInt8) (h2 : L.length % 64 + x.length = 64) : addF (restF (L ++ x)) (stA L (L.length / 64)) = stA (L ++ x) ((L ++ x).length / 64) := by
  have e1 : (L ++ x).length / 64 = L.length / 64 + 1 := by rw [List.length_append]; omega
  rw [rest_full (L ++ x) (by rw [List.length_append]; omega) (by rw [List.length_append]; omega), e1, ← stA_app L x (L.length / 64) (by omega)]
  rfl
theorem stA_part (L x : List UInt8) (h2 : L.length % 64 + x.length < 64) : stA L (L.length / 64) = stA (L ++ x) ((L ++ x).length / 64) := by
  have e1 : (L ++ x).length / 64 = L.length / 64 := by rw [List.length_append]; omega
  rw [e1, stA_app L x (L.length / 64) (by omega)]
theorem rest_nil : restF [] = zb := by
  funext j
  unfold restF zb
  by_cases hj : j < 64
  · rw [if_pos hj]; rfl
  · rw [if_neg hj]
/-- the state of a digest as a value -/
def HV (L : List UInt8) : List Value := hv (stA L (L.length / 64)) (restF L) L.length
theorem HV_nil : HV [] = hv zw zb 0 := by unfold HV; rw [rest_nil]; rfl
theorem hv_setb (A : Nat → BitVec 32) (R : Nat → UInt8) (n j : Nat) (h : j < 64) (c : UInt8) : (hv A R n).set (8 + j) (.int .u8 ((c.toNat : Nat) : Int)) = hv A (upd R j c) n := by
  apply List.ext_getElem?
  intro i
  by_cases e : 8 + j = i
  · subst e
    rw [List.getElem?_set_self (by rw [hv_len]; omega), hv_b _ _ _ _ h]
    unfold upd; rw [if_pos rfl]
  · rw [List.getElem?_set_ne e]
    by_cases h8 : i < 8
    · rw [hv_w _ _ _ _ h8, hv_w _ _ _ _ h8]
    · by_cases h72 : i < 72
      · rw [show i = 8 + (i - 8) by omega, hv_b _ _ _ _ (by omega), hv_b _ _ _ _ (by omega)]
        unfold upd; rw [if_neg (by omega)]
      · by_cases h73 : i = 72
        · subst h73; rw [hv_n, hv_n]
        · rw [List.getElem?_eq_none (by rw [hv_len]; omega), List.getElem?_eq_none (by rw [hv_len]; omega)]
def u8s (x : List UInt8) : List Value := x.map fun c => Value.int .u8 ((c.toNat : Nat) : Int)
theorem ovr_cons (R : Nat → UInt8) (off : Nat) (c : UInt8) (x : List UInt8) : ovr (upd R off c) (off + 1) x = ovr R off (c :: x) := by
  funext j
  unfold ovr upd
  rw [List.length_cons]
  by_cases e : j = off
  · subst e
    rw [if_neg (by omega), if_pos rfl, if_pos (by omega), Nat.sub_self]; rfl
  · by_cases h : off + 1 ≤ j ∧ j < off + 1 + x.length
    · rw [if_pos h, if_pos (by omega), show j - off = (j - (off + 1)) + 1 by omega]; rfl
    · rw [if_neg h, if_neg e, if_neg (by omega)]
theorem cells_hv {A : Nat → BitVec 32} {n b t : Nat} : ∀ (x : List UInt8) (R : Nat → UInt8) (off : Nat) (w : World), Blk w b t (hv A R n) → off + x.length ≤ 64 → Blk (w.setCells b (8 + off) (u8s x)) b t (hv A (ovr R off x) n) ∧ Spr b w (w.setCells b (8 + off) (u8s x))
  | [], R, off, w, h, _ => by
    have e : ovr R off [] = R := by funext j; unfold ovr; rw [if_neg (by rw [List.length_nil]; omega)]
    rw [e]
    exact ⟨h, rfl, rfl, rfl, Nat.le_refl _, fun _ _ _ => rfl⟩
  | c :: x, R, off, w, h, hl => by
    rw [List.length_cons] at hl
    have h1 := h.set (8 + off) (.int .u8 ((c.toNat : Nat) : Int))
    rw [hv_setb _ _ _ _ (by omega)] at h1
    have h2 := cells_hv x (upd R off c) (off + 1) _ h1 (by omega)
    rw [ovr_cons] at h2
    have hs : Spr b w (w.setCell ⟨b, 8 + off, none⟩ (.int .u8 ((c.toNat : Nat) : Int))) := (⟨rfl, rfl, rfl, Nat.le_refl _, fun _ _ _ => rfl⟩ : Spr b w w).far _ _ _ (.inr rfl)
    exact ⟨h2.1, hs.trans h2.2⟩
theorem sizeU (w : World) : (sizeOf 5).run Tryd.prog w = .ok 1 w := size1 w
/-- 'copy(rest[used:], s)' -/
theorem copy_str {w : World} {ops : Array Oper} {rest : List Oper} {o : Oper} {a : Act} {Q : Exit → Act → World → Prop} (hgd : o.guard = none) (d s : Operand) (dT sT : TypeId)
    (ho : o.op = .call { callee := .builtin .copy, args := #[d, s], argTypes := #[dT, sT] }) (hu : Tryd.prog.underlying dT = some (.slice 5))
    (b off dLen dCap : Nat) (t : ByteArray) (hd : a.eval d = .slice (some ⟨b, 8 + off, none⟩) dLen dCap) (hs : a.eval s = .string t)
    (A : Nat → BitVec 32) (R : Nat → UInt8) (n ty : Nat) (hb : Hid (Blk w b ty (hv A R n))) (c : Nat) (hc : c = Nat.min t.size dLen) (hfit : off + c ≤ 64)
    (h : ∀ w', Blk w' b ty (hv A (ovr R off (t.data.toList.take c)) n) → Spr b w w' → wpList Tryd.prog ops Q rest (a.put o.dst (.int .i64 (c : Int))) w') :
    wpList Tryd.prog ops Q (o :: rest) a w := by
  refine wpList_plain hgd fun K hK => ?_
  have hct : c ≤ t.size := by rw [hc]; exact Nat.min_le_left _ _
  have hl : (u8s (t.data.toList.take c)).length = c := by unfold u8s; rw [List.length_map, List.length_take, ← Lib.size_eq]; omega
  have hw := cells_hv (t.data.toList.take c) R off w hb.out (by rw [List.length_take, ← Lib.size_eq]; omega)
  have hcell : ∀ j, j < c → (w.cell? ⟨b, 8 + off + j, none⟩).isSome = true := fun j hj => by
    rw [show 8 + off + j = 8 + (off + j) by omega, hb.out.cell _ _ (hv_b A R n (off + j) (by omega))]; rfl
  have hfr : ∀ j, j < c → w.frozen? ⟨b, 8 + off + j, none⟩ = false := fun j _ => hb.out.free _
  have hst := run_storeCells_cells (P := Tryd.prog) b (8 + off) (u8s (t.data.toList.take c)) 0 w (by rw [hl]; simpa using hcell) (by rw [hl]; simpa using hfr) (by
    intro v hv
    obtain ⟨x, _, rfl⟩ := List.mem_map.1 hv
    rfl)
  have hrun : (Builtin.copy_ #[dT, sT] o.type #[.slice (some ⟨b, 8 + off, none⟩) dLen dCap, .string t]).run Tryd.prog w = .ok (goInt c) (w.setCells b (8 + off) (u8s (t.data.toList.take c))) := by
    have e : List.take c (t.data.toList.map fun x => Value.int .u8 (x.toNat : Int)) = u8s (t.data.toList.take c) := by unfold u8s; rw [List.map_take]
    simp [Builtin.copy_, run_underlying hu, Builtin.lenOf, Builtin.firstCells, ← hc]
    rw [e, hst]
    rfl
  unfold Oper.wp
  simp [execOp, ho, resolve, invoke, builtin, hd, hs, hrun, Result.andThen]
  exact hK _ _ (h _ hw.1 hw.2)
end Go.Proofs.YtnngadbmfdfmfaaDoor
