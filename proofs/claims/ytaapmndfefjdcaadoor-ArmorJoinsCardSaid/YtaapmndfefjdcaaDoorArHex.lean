/-
  Helper: an append of several bytes; the walks of Hex and appendGroup.
-/
import Derived.Test.YtaapmndfefjdcaaDoorArUnp
import Derived.Deep.RegionLaw
import Derived.BigRegion
import Derived.Laws.BitsAllLaws
import Derived.Outline
namespace Go.Proofs.YtaapmndfefjdcaaDoor
open Go.RowKit
set_option linter.unusedVariables false

/-- 'out = append(out, c0, c1, ..)' at this program: out is nil or the call's own -/
theorem append_bytes {w : World} {ops : Array Oper} {rest : List Oper} {o : Oper} {a : Act} {Q : Exit → Act → World → Prop} (hgd : o.guard = none) (s x : Operand) (t : TypeId)
    (ho : o.op = Op.call { callee := Callee.builtin Builtin.append, args := #[s, x], argTypes := #[t, t] }) (hu : Tryd.prog.underlying t = some (.slice 5))
    (zs : Array Value) (B : Nat) (v : Value) (n : Nat) (l cs : List UInt8) (m : Nat) (hs : a.eval s = v) (hx : a.eval x = .slice (some ⟨w.heap.size, 0, none⟩) m m) (hm : cs.length = m)
    (hown : w.ownsRow B 5 1 v n (bytes l)) (w0 : World) (hb : Below B w0 w) (hB : B ≤ w.heap.size) (hn : n ≤ 100000000) (hm2 : m ≤ 1000) (hz : zs.toList = bytes cs)
    (h : ∀ v' w1, w1.ownsRow B 5 1 v' (n + m) (bytes (l ++ cs)) → Below B w0 w1 → Spared w v w1 → wpList Tryd.prog ops Q rest (a.put o.dst v') w1) :
    wpList Tryd.prog ops Q (o :: rest) a (w.alloc (.cells zs 5)) := by
  obtain ⟨i0, hi, hz0, hz1, hz2⟩ := info_parts info_u8
  have hlt := hown.lt
  refine wpList_append_own _ hgd s x t ho B 5 i0 (.int .u8 0) 1 1 hu hi hz0 hz1 hz2 rfl (by decide) v n (bytes l) hs (hown.alloc _) ⟨w.heap.size, 0, none⟩ m m (bytes cs) hx (by rw [bytes_len]; omega) ?_ (cells_one cs) (by unfold maxLen; omega) (by omega) (by simp; omega) ?_
  · intro j u hj
    have e : (⟨w.heap.size, 0, none⟩ : Addr).add j = ⟨w.heap.size, j, none⟩ := by cases j <;> simp [Addr.add]
    rw [e, World.cell?_alloc_at _ _ _ _ rfl, ← Array.getElem?_toList, hz]
    exact hj
  · intro v' w1 ho' hgr _
    have e : bytes l ++ bytes cs = bytes (l ++ cs) := by unfold bytes; rw [List.map_append]
    rw [e] at ho'
    refine h v' w1 ho' ((hb.alloc hB _).grown hgr (by simp; omega) (fun k hk => (hlt k hk).1)) ⟨?_, fun k h1 h2 => ?_⟩
    · have := hgr.size
      simp at this; omega
    · rw [hgr.block k (by simp; omega) h2]
      exact Below.heap_alloc _ _ _ h1
/-- the same append as a step of a region that draws its order -/
theorem step_append_bytes {w : World} {ops : Array Oper} {o : Oper} {a : Act} {K : Act → World → Prop} {Q : Exit → Act → World → Prop} {E : Prop} (hgd : o.guard = none) (s x : Operand) (t : TypeId)
    (ho : o.op = Op.call { callee := Callee.builtin Builtin.append, args := #[s, x], argTypes := #[t, t] }) (hu : Tryd.prog.underlying t = some (.slice 5))
    (zs : Array Value) (B : Nat) (v : Value) (n : Nat) (l cs : List UInt8) (m : Nat) (hs : a.eval s = v) (hx : a.eval x = .slice (some ⟨w.heap.size, 0, none⟩) m m) (hm : cs.length = m)
    (hown : w.ownsRow B 5 1 v n (bytes l)) (w0 : World) (hb : Below B w0 w) (hB : B ≤ w.heap.size) (hn : n ≤ 100000000) (hm2 : m ≤ 1000) (hz : zs.toList = bytes cs)
    (h : ∀ v' w1, w1.ownsRow B 5 1 v' (n + m) (bytes (l ++ cs)) → Below B w0 w1 → Spared w v w1 → K (a.put o.dst v') w1) :
    if Region.wanted o (yielded ops a.tmps) = true then Oper.wp Tryd.prog o a (w.alloc (.cells zs 5)) K Q else E := by
  have hw : Region.wanted o (yielded ops a.tmps) = true := by simp [Region.wanted, hgd]
  rw [if_pos hw]
  obtain ⟨i0, hi, hz0, hz1, hz2⟩ := info_parts info_u8
  have hlt := hown.lt
  obtain ⟨v', w1, hrun, ho', hgr, _⟩ := run_append_own (P := Tryd.prog) (w.alloc (.cells zs 5)) B t o.type 5 i0 (.int .u8 0) 1 1 hu hi hz0 hz1 hz2 rfl (by decide) v n (bytes l) (hown.alloc _) ⟨w.heap.size, 0, none⟩ m m (bytes cs) (by rw [bytes_len]; omega)
    (by
      intro j u hj
      have e : (⟨w.heap.size, 0, none⟩ : Addr).add j = ⟨w.heap.size, j, none⟩ := by cases j <;> simp [Addr.add]
      rw [e, World.cell?_alloc_at _ _ _ _ rfl, ← Array.getElem?_toList, hz]
      exact hj)
    (cells_one cs) (by unfold maxLen; omega) (by omega) (by simp; omega)
  unfold Oper.wp
  simp [execOp, ho, resolve, invoke, builtin, hs, hx, hrun, Result.andThen]
  have e : bytes l ++ bytes cs = bytes (l ++ cs) := by unfold bytes; rw [List.map_append]
  rw [e] at ho'
  refine h v' w1 ho' ((hb.alloc hB _).grown hgr (by simp; omega) (fun k hk => (hlt k hk).1)) ⟨?_, fun k h1 h2 => ?_⟩
  · have := hgr.size
    simp at this; omega
  · rw [hgr.block k (by simp; omega) h2]
    exact Below.heap_alloc _ _ _ h1
/-- 'make([]byte, 0, c)' at this program -/
theorem make_room (w : World) {ops : Array Oper} {rest : List Oper} {o : Oper} {a : Act} {Q : Exit → Act → World → Prop}
    (hg : o.guard = none) (l c : Operand) (t : TypeId) (hop : o.op = Op.makeSlice t l c) (h1 : Tryd.prog.underlying t = some (.slice 5)) (C : Int) (n : Nat) (hl : a.eval l = .int .i64 0) (hc : a.eval c = .int .i64 C) (hC : C = (n : Int)) (hn : n ≤ 100000000)
    (hK : ∀ w', w'.ownsRow w.heap.size 5 1 (.slice (some ⟨w.heap.size, 0, none⟩) 0 n) 0 (bytes []) → Below w.heap.size w w' → wpList Tryd.prog ops Q rest (a.put o.dst (.slice (some ⟨w.heap.size, 0, none⟩) 0 n)) w') :
    wpList Tryd.prog ops Q (o :: rest) a w := by
  obtain ⟨i0, hi, hz0, hz1, hz2⟩ := info_parts info_u8
  refine wpList_make_own w hg l c t hop w.heap.size 5 i0 (.int .u8 0) 1 h1 hi hz0 hz1 .i64 .i64 C n hl hc hC (by rw [hz2]; omega) (by unfold maxLen; omega) (Nat.le_refl _) (fun w' ho hgr => ?_)
  exact hK w' ho ((Below.refl _ w).grown hgr (Nat.le_refl _) (fun k hk => by cases hk))
theorem and_15 (x : Nat) (h : x < 256) : bits .and .u8 (x : Int) 15 = ((x % 16 : Nat) : Int) := by
  have := u8_and_nat x 15 h (by omega)
  rw [nat_mask4] at this
  exact this
theorem ownsRow_drew {w : World} {B e s n : Nat} {v : Value} {xs : List Value} (h : w.ownsRow B e s v n xs) : w.drew.ownsRow B e s v n xs := h
theorem hexA_take (s : ByteArray) (k : Nat) (h : k < s.size) : hexA (s.data.toList.take (k + 1)) = hexA (s.data.toList.take k) ++ [hx (s[k].toNat / 16), hx (s[k].toNat % 16)] := by
  rw [List.take_succ_eq_append_getElem (by simpa using h), hexA_app]; rfl
set_option maxRecDepth 100000 in
set_option maxHeartbeats 2000000 in
theorem hex_any (s : ByteArray) (w : World) (hs : s.size ≤ 100000) :
    Calls Tryd.prog 12 #[.string s] w (TxtP (hexA s.data.toList) w) := by
  have hlen : s.data.toList.length = s.size := by simp
  have HF : Hid (∀ w', Below w.heap.size w w' → TxtP (hexA s.data.toList) w (.returned (.string ⟨(hexA (s.data.toList.take s.size)).toArray⟩)) w') := fun w' hb => ⟨by rw [List.take_of_length_le (by omega)], hb⟩
  have HS := Lib.hid (fun k (h : k < s.size) => hexA_take s k h)
  have HL : Hid (∀ k, k ≤ s.size → (hexA (s.data.toList.take k)).length = 2 * k) := fun k hk => by rw [hexA_len, List.length_take]; omega
  clear hlen
  generalize hPo : TxtP (hexA s.data.toList) w = Po at *
  clear hPo
  generalize s.data.toList = l at *
  obtain ⟨i0, hi, hz0, hz1, hz2⟩ := info_parts info_u8
  go_enter Tryd.func12, Tryd.ntmps12
  go_wp2_with (at_make; refine make_room _ rfl _ _ 40 rfl Tryd.underlying40 _ (2 * s.size) rfl rfl ?c1 ?c2 ?_)
  case c1 => omega
  case c2 => omega
  intro w1 hown0 hb0
  have hown0h := Lib.hid hown0
  clear hown0
  go_wp2
  go_loopw [3, 11] (fun v i wr => ∃ k : Nat, k ≤ s.size ∧ i = .int .i64 k ∧ wr.ownsRow w.heap.size 5 1 v (2 * k) (bytes (hexA (l.take k))) ∧ Below w.heap.size w wr) (fun _ i _ => s.size - (intOf i).toNat)
  case atStart => exact ⟨0, Nat.zero_le _, rfl, hown0h.out, hb0⟩
  case round =>
    obtain ⟨k, hk, rfl, hown, hbel⟩ := hrel
    by_cases hlt : k < s.size
    · have hst := Lib.hid (HS.out k hlt)
      have hownh := Lib.hid hown
      have hszw := hbel.size
      have hlk := Lib.hid (HL.out k hk)
      have hc : (s[k]).toNat < 256 := UInt8.toNat_lt _
      have hkn : (k : Int) < s.size := by omega
      clear hown
      have i1 := ix_hex .u8 ((s[k]).toNat / 16) (by omega)
      have i2 := ix_hex .u8 ((s[k]).toNat % 16) (by omega)
      have e1 : (((s[k]).toNat / 16 : Nat) : Int) = ((s[k]).toNat : Int) / 16 := by omega
      have e2 := (and_15 (s[k]).toNat hc).symm
      rw [e1] at i1
      rw [e2] at i2
      generalize hx ((s[k]).toNat / 16) = h1 at *
      generalize hx ((s[k]).toNat % 16) = h2 at *
      clear e1 e2
      go_wp2_with fail
      have hwd : Hid (wr.drew.ownsRow w.heap.size 5 1 u3 (2 * k) (bytes (hexA (l.take k)))) := hownh.out
      have hbd : Hid (Below w.heap.size w wr.drew) := hbel.drew
      have hsd : w.heap.size ≤ wr.drew.heap.size := hszw
      go_region_law ((refine step_append_bytes (w := wr.drew) rfl (.tmp 14) (.tmp 25) 40 rfl Tryd.underlying40 _ w.heap.size _ (2 * k) (hexA (l.take k)) [h1, h2] 2 rfl rfl rfl hwd.out w hbd.out hsd (by omega) (by omega) rfl ?_); intro v' w3 hown3 hb3 hsp)
      all_goals
        have hown3h := Lib.hid hown3
        clear hsp i1 i2 hown3
        go_wp2
        go_roundw
        case rel => exact ⟨k + 1, by omega, by go_num, by rw [hst.out]; exact hown3h.out, hb3⟩
        case measure => simp [intOf]; omega
    · obtain rfl : k = s.size := by omega
      have hll := Lib.hid (HL.out s.size (Nat.le_refl _))
      obtain ⟨a2, cap2, rfl, hq1, hq2, hrb⟩ := rb_of_row hown
      have hcv := conv_rb hrb (2 * s.size) hll.out cap2
      have hfin := Lib.hid (HF.out _ hbel)
      generalize hexA (l.take s.size) = r at *
      clear hown hrb hq1 hq2
      go_wp2
      exact hfin.out
end Go.Proofs.YtaapmndfefjdcaaDoor
