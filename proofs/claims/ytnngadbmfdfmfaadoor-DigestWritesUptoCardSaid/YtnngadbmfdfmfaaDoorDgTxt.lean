/-
  Helper: texts out of bytes; the walk of padding.
-/
import Derived.Test.YtnngadbmfdfmfaaDoorDgMem
import Derived.Test.YtnngadbmfdfmfaaDoorDgPlain
import Derived.Laws.IdiomStrings
import Derived.Laws.BytesArg
namespace Go.Proofs.YtnngadbmfdfmfaaDoor
open Go.RowKit
set_option linter.unusedVariables false

/-- 'make([]byte, 0, c)' at this program -/
theorem make_room (w : World) {ops : Array Oper} {rest : List Oper} {o : Oper} {a : Act} {Q : Exit → Act → World → Prop}
    (hg : o.guard = none) (l c : Operand) (t : TypeId) (hop : o.op = Op.makeSlice t l c) (h1 : Tryd.prog.underlying t = some (.slice 5)) (C : Int) (n : Nat) (hl : a.eval l = .int .i64 0) (hc : a.eval c = .int .i64 C) (hC : C = (n : Int)) (hn : n ≤ 100000000)
    (hK : ∀ w', w'.ownsRow w.heap.size 5 1 (.slice (some ⟨w.heap.size, 0, none⟩) 0 n) 0 (bytes []) → Below w.heap.size w w' → wpList Tryd.prog ops Q rest (a.put o.dst (.slice (some ⟨w.heap.size, 0, none⟩) 0 n)) w') :
    wpList Tryd.prog ops Q (o :: rest) a w := by
  obtain ⟨i0, hi, hz0, hz1, hz2⟩ := info_parts info_u8
  refine wpList_make_own w hg l c t hop w.heap.size 5 i0 (.int .u8 0) 1 h1 hi hz0 hz1 .i64 .i64 C n hl hc hC (by rw [hz2]; omega) (by unfold maxLen; omega) (Nat.le_refl _) (fun w' ho hgr => ?_)
  exact hK w' ho ((Below.refl _ w).grown hgr (Nat.le_refl _) (fun k hk => by cases hk))
theorem ownsRow_drew {w : World} {B e s n : Nat} {v : Value} {xs : List Value} (h : w.ownsRow B e s v n xs) : w.drew.ownsRow B e s v n xs := h
/-- a text comes back -/
def TxtP (l : List UInt8) (w : World) (e : Ending) (w' : World) : Prop := e = .returned (.string ⟨l.toArray⟩) ∧ Below w.heap.size w w'
theorem conv_rb {w : World} {a : Option Addr} {l : List UInt8} (h : Rb w a l) (n : Nat) (hn : l.length = n) (cap : Nat) : (convert 26 9 (.slice a n cap)).run Tryd.prog w = .ok (.string ⟨l.toArray⟩) w := by
  subst hn
  cases a with
  | none =>
    have hl : l = [] := by
      rcases h with h | ⟨b, off, h, _⟩
      · exact h
      · cases h
    subst hl
    exact run_convert_bytes_nil w 26 5 Tryd.underlying26 Tryd.underlying5 0 cap 9 Tryd.underlying9
  | some ad =>
    refine run_convert_bytes_back w 26 9 5 ad cap l Tryd.underlying26 Tryd.underlying5 Tryd.underlying9 (fun j hj => ?_)
    obtain ⟨ad', he, hc⟩ := rb_src h (by omega)
    cases he
    refine hc j _ ?_
    rw [bytes_get l j hj, List.getD_eq_getElem?_getD, List.getElem?_eq_getElem hj]; rfl
theorem ix_any (l : List UInt8) (k : IntKind) (v : Nat) (h : v < l.length) (W : World) : (Instr.index 9 (.string ⟨l.toArray⟩) (.int k (v : Int))).run Tryd.prog W = .ok (.int .u8 (((l.getD v 0).toNat : Nat) : Int)) W := by
  have hs : (⟨l.toArray⟩ : ByteArray).size = l.length := by simp [ByteArray.size]
  have hi : 0 ≤ (v : Int) ∧ (v : Int) < ((⟨l.toArray⟩ : ByteArray).size : Int) := by rw [hs]; omega
  rw [run_index_string W 9 _ k v Tryd.underlying9, dif_pos hi]
  have e : (⟨l.toArray⟩ : ByteArray)[(v : Int).toNat]'(by rw [hs]; omega) = l.getD v 0 := by
    rw [List.getD_eq_getElem?_getD, List.getElem?_eq_getElem h]
    show l.toArray[(v : Int).toNat]'_ = _
    simp
  rw [e]
theorem ix_hex (k : IntKind) (v : Nat) (h : v < 16) (W : World) : (Instr.index 9 (.string ⟨#[48, 49, 50, 51, 52, 53, 54, 55, 56, 57, 97, 98, 99, 100, 101, 102]⟩) (.int k (v : Int))).run Tryd.prog W = .ok (.int .u8 (((hx v).toNat : Nat) : Int)) W := ix_any HX k v h W

/-- the number of zeros -/
def zn (n : Nat) : Nat := (119 - n % 64) % 64
/-- the bytes of a length in bits -/
def lenB (n : Nat) : List UInt8 := (List.range 8).map fun i => UInt8.ofNat (8 * n / 2 ^ (8 * (7 - i)) % 256)
/-- what follows the bytes -/
def padB (n : Nat) : List UInt8 := 128 :: (List.replicate (zn n) 0 ++ lenB n)
theorem zn_lt (n : Nat) : zn n < 64 := Nat.mod_lt _ (by omega)
theorem lenB_len (n : Nat) : (lenB n).length = 8 := by unfold lenB; simp
theorem padB_len (n : Nat) : (padB n).length = 9 + zn n := by unfold padB; rw [List.length_cons, List.length_append, List.length_replicate, lenB_len]; omega
theorem padB_mod (n : Nat) : (n + (padB n).length) % 64 = 0 := by rw [padB_len]; unfold zn; omega
/-- the bytes, the last k of the length written -/
def padK (n k : Nat) : List UInt8 := 128 :: (List.replicate (zn n + (8 - k)) 0 ++ (lenB n).drop (8 - k))
theorem padK_len (n k : Nat) (hk : k ≤ 8) : (padK n k).length = 9 + zn n := by unfold padK; rw [List.length_cons, List.length_append, List.length_replicate, List.length_drop, lenB_len]; omega
theorem padK_end (n : Nat) : padK n 8 = padB n := by unfold padK padB; simp
theorem lenB_get (n i : Nat) (h : i < 8) : (lenB n)[i]? = some (UInt8.ofNat (8 * n / 2 ^ (8 * (7 - i)) % 256)) := by
  unfold lenB; rw [List.getElem?_map, List.getElem?_range h]; rfl
theorem padK_step (n k : Nat) (h : k < 8) : (padK n k).set (8 + zn n - k) (UInt8.ofNat (8 * n / 2 ^ (8 * k) % 256)) = padK n (k + 1) := by
  unfold padK
  rw [show 8 + zn n - k = (zn n + (8 - (k + 1))) + 1 by omega, List.set_cons_succ]
  congr 1
  rw [show zn n + (8 - k) = (zn n + (8 - (k + 1))) + 1 by omega, List.replicate_succ', List.append_assoc, List.set_append_right _ _ (by rw [List.length_replicate]; omega), List.length_replicate, Nat.sub_self]
  congr 1
  have e : (lenB n).drop (8 - (k + 1)) = (UInt8.ofNat (8 * n / 2 ^ (8 * k) % 256)) :: (lenB n).drop (8 - k) := by
    rw [List.drop_eq_getElem_cons (by rw [lenB_len]; omega), show 8 - (k + 1) + 1 = 8 - k by omega]
    congr 1
    have h1 := lenB_get n (8 - (k + 1)) (by omega)
    rw [List.getElem?_eq_getElem (by rw [lenB_len]; omega)] at h1
    have h2 := Option.some.inj h1
    rw [h2, show 7 - (8 - (k + 1)) = k by omega]
  rw [e]; rfl
set_option maxRecDepth 100000 in
set_option maxHeartbeats 4000000 in
theorem padding_any (n : Nat) (w : World) (hn : n ≤ 1000000) : Calls Tryd.prog 23 #[.int .u64 (n : Int)] w (TxtP (padB n) w) := by
  obtain ⟨z, hz⟩ : ∃ z, zn n = z := ⟨_, rfl⟩
  have hz64 : z < 64 := by rw [← hz]; exact zn_lt n
  obtain ⟨u, hu⟩ : ∃ u, n % 64 = u := ⟨_, rfl⟩
  have h1 : (n : Int) % 64 = (u : Int) := by omega
  have hu64 : u < 64 := by omega
  have h2 : (119 - (u : Int)).tmod 64 = (z : Int) := by
    rw [Int.tmod_eq_emod_of_nonneg (by omega)]; unfold zn at hz; omega
  have h2b : (119 - (u : Int)) % 64 = (z : Int) := by unfold zn at hz; omega
  have hFi : Hid (∀ w', Below w.heap.size w w' → TxtP (padB n) w (.returned (.string ⟨(padB n).toArray⟩)) w') := fun w' h => ⟨rfl, h⟩
  have hzh := Lib.hid hz
  generalize TxtP (padB n) w = Po at *
  clear hu hz
  go_enter Tryd.func23, Tryd.ntmps23
  go_wp2_with (at_make; refine make_bytes _ rfl _ _ 26 rfl Tryd.underlying26 _ _ (9 + z) rfl rfl ?c1 ?c2 ?c3 ?_)
  case c1 => omega
  case c2 => omega
  case c3 => omega
  intro w1 hrow hb1
  have hR0 : Hid (Row (w1.setCell ⟨w.heap.size, 0, none⟩ (.int .u8 128)) w.heap.size 5 (padK n 0)) := by
    have h := hrow.put 0 128 128 (by rw [List.length_replicate]; omega) (by omega) rfl
    have e : (List.replicate (9 + z) (0 : UInt8)).set 0 (UInt8.ofNat 128) = padK n 0 := by
      unfold padK
      rw [hzh.out, show 9 + z = (z + (8 - 0)) + 1 by omega, List.replicate_succ, List.set_cons_zero, List.drop_of_length_le (by rw [lenB_len]; omega), List.append_nil]
      rfl
    rw [e] at h
    exact h
  have hB0 : Hid (Below w.heap.size w (w1.setCell ⟨w.heap.size, 0, none⟩ (.int .u8 128))) := hb1.setCell (p := ⟨w.heap.size, 0, none⟩) (Nat.le_refl _) _
  have c0 := hrow.cell 0 (by rw [List.length_replicate]; omega)
  have f0 := hrow.free 0
  have hm : IntKind.u64.wrap ((n : Int) * 8) = (n : Int) * 8 := by rw [IntKind.wrap_u64]; omega
  have hm2 : ((n : Int) * 8) % 18446744073709551616 = (n : Int) * 8 := by omega
  clear hrow h1 h2 h2b hb1
  go_wp2
  generalize w1.setCell ⟨w.heap.size, 0, none⟩ (.int .u8 128) = wb at *
  clear c0 f0 hm hm2
  go_loopw [20] (fun i wr => ∃ k : Nat, k ≤ 8 ∧ i = .int .i64 k ∧ Hid (Row wr w.heap.size 5 (padK n k)) ∧ Hid (Below w.heap.size w wr)) (fun i _ => 8 - (intOf i).toNat)
  case atStart => exact ⟨0, by omega, rfl, hR0, hB0⟩
  case round =>
    obtain ⟨k, hk, rfl, hR, hB⟩ := hrel
    by_cases hlt : k < 8
    · have hst := padK_step n k hlt
      rw [hzh.out] at hst
      have c1 := hR.out.cell (8 + z - k) (by rw [padK_len n k hk, hzh.out]; omega)
      have f1 := hR.out.free (8 + z - k)
      have hp := Lib.hid (fun zz hz => hR.out.put (8 + z - k) (8 * n / 2 ^ (8 * k) % 256) zz (by rw [padK_len n k hk, hzh.out]; omega) (Nat.mod_lt _ (by omega)) hz)
      rw [hst] at hp
      have hbn := Lib.hid (fun zz : Value => hB.out.setCell (p := ⟨w.heap.size, 8 + z - k, none⟩) (Nat.le_refl _) zz)
      have e1 : ((9 + z : Nat) : Int) - 1 - (k : Int) = ((8 + z - k : Nat) : Int) := by omega
      have e2 : (9 + (z : Int)) - 1 - (k : Int) = ((8 + z - k : Nat) : Int) := by omega
      have e3 : (0 : Int) ≤ 8 * (k : Int) := by omega
      have e4 : 8 * (k : Int) ≤ 64 := by omega
      have e5 : (8 * (k : Int)).toNat = 8 * k := by omega
      generalize (padK n k).getD (8 + z - k) 0 = x at *
      have hm' : 8 + z - k < 9 + z := by omega
      generalize 8 + z - k = m at *
      have ev : (n : Int) * 8 / 2 ^ (8 * k) % 256 = ((8 * n / 2 ^ (8 * k) % 256 : Nat) : Int) := by
        rw [Int.natCast_emod, Int.natCast_ediv, Int.natCast_pow, Int.natCast_mul, Int.mul_comm]; rfl
      have evh := Lib.hid ev
      clear ev
      go_wp2
      go_roundw
      case rel => exact ⟨k + 1, by omega, by go_num, hp.out _ evh.out, hbn.out _⟩
      case measure => simp [intOf]; omega
    · obtain rfl : k = 8 := by omega
      have hcv := conv_rb hR.out.rb (9 + z) (by rw [padK_len n 8 hk, hzh.out]) (9 + z)
      have hfin := hFi.out _ hB.out
      have hfinh := Lib.hid hfin
      rw [padK_end] at hcv
      clear hfin
      generalize padB n = r at *
      go_wp2
      exact hfinh.out
end Go.Proofs.YtnngadbmfdfmfaaDoor
