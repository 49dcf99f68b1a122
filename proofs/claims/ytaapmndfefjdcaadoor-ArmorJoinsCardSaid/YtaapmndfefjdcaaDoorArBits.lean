/-
  Helper: rows of ints; the walks of the reference's bits, number and index.
-/
import Derived.Test.YtaapmndfefjdcaaDoorArMem
import Derived.Deep.LoopGhost
import Derived.IntWalk
import Derived.Outline
namespace Go.Proofs.YtaapmndfefjdcaaDoor
open Go.RowKit
set_option linter.unusedVariables false

def ints (l : List Nat) : List Value := l.map fun (c : Nat) => Value.int .i64 (c : Int)
theorem ints_len (l : List Nat) : (ints l).length = l.length := List.length_map ..
theorem ints_get (l : List Nat) (i : Nat) (h : i < l.length) : (ints l)[i]? = some (.int .i64 ((l.getD i 0 : Nat) : Int)) := by
  unfold ints; rw [List.getElem?_map, List.getElem?_eq_getElem h, List.getD_eq_getElem?_getD, List.getElem?_eq_getElem h]; rfl
theorem ints_snoc (l : List Nat) (c : Nat) : ints l ++ [.int .i64 (c : Int)] = ints (l ++ [c]) := by unfold ints; simp
/-- the cells behind a slice that reads as a list of ints -/
def Ib (w : World) (a : Option Addr) (l : List Nat) : Prop :=
  l = [] ∨ ∃ b off, a = some ⟨b, off, none⟩ ∧ b < w.heap.size ∧ ∀ i, i < l.length → w.cell? ⟨b, off + i, none⟩ = some (.int .i64 ((l.getD i 0 : Nat) : Int))
theorem Ib.below {w w' : World} {B : Nat} {a : Option Addr} {l : List Nat} (h : Ib w a l) (hb : Below B w w') (hB : w.heap.size ≤ B) : Ib w' a l := by
  rcases h with h | ⟨b, off, rfl, hlt, hc⟩
  · exact .inl h
  · exact .inr ⟨b, off, rfl, Nat.lt_of_lt_of_le hlt hb.size, fun i hi => by rw [hb.cell (Nat.lt_of_lt_of_le hlt hB)]; exact hc i hi⟩
theorem Ib.go {w w' : World} {a : Option Addr} {l : List Nat} (h : Ib w a l) (hb : Below w.heap.size w w') : Ib w' a l := h.below hb (Nat.le_refl _)
theorem Ib.at {w : World} {a : Option Addr} {l : List Nat} (h : Ib w a l) (i : Nat) (hi : i < l.length) : ∃ b off, a = some ⟨b, off, none⟩ ∧ b < w.heap.size ∧ w.cell? ⟨b, off + i, none⟩ = some (.int .i64 ((l.getD i 0 : Nat) : Int)) := by
  rcases h with rfl | ⟨b, off, rfl, hlt, hc⟩
  · simp at hi
  · exact ⟨b, off, rfl, hlt, hc i hi⟩
theorem ib_of_row {w : World} {B n e : Nat} {v : Value} {l : List Nat} (h : w.ownsRow B e 1 v n (ints l)) : ∃ a cap, v = .slice a n cap ∧ n = l.length ∧ n ≤ cap ∧ Ib w a l := by
  have hlen : l.length = n := by have := h.1; rw [ints_len, Nat.mul_one] at this; exact this
  rcases h.2 with ⟨rfl, rfl⟩ | ⟨g, cap, cur, rfl, _, hg, hn, _⟩
  · exact ⟨none, 0, rfl, hlen.symm, Nat.le_refl _, .inl (List.eq_nil_of_length_eq_zero hlen)⟩
  · refine ⟨_, cap, rfl, hlen.symm, hn, .inr ⟨g, 0, rfl, (Array.getElem?_eq_some_iff.1 hg).1, fun i hi => ?_⟩⟩
    have hc := h.cells (g := g) rfl i _ (ints_get l i hi)
    have e : (⟨g, 0, none⟩ : Addr).add i = ⟨g, 0 + i, none⟩ := by cases i <;> simp [Addr.add]
    rw [e] at hc; exact hc
theorem info_int : (Tryd.prog.info? 3).map (fun i => (i.zero, i.size, i.bytes)) = some (some (.int .i64 0), 1, 8) := by kernel_rfl
/-- 'out = append(out, c)' at a row of ints: out is nil or the call's own -/
theorem append_int {w : World} {ops : Array Oper} {rest : List Oper} {o : Oper} {a : Act} {Q : Exit → Act → World → Prop} (hgd : o.guard = none) (s x : Operand) (t : TypeId)
    (ho : o.op = Op.call { callee := Callee.builtin Builtin.append, args := #[s, x], argTypes := #[t, t] }) (hu : Tryd.prog.underlying t = some (.slice 3))
    (z : Int) (B : Nat) (v : Value) (n : Nat) (l : List Nat) (c : Nat) (hs : a.eval s = v) (hx : a.eval x = .slice (some ⟨w.heap.size, 0, none⟩) 1 1)
    (hown : w.ownsRow B 3 1 v n (ints l)) (w0 : World) (hb : Below B w0 w) (hB : B ≤ w.heap.size) (hn : n ≤ 100000000) (hz : z = (c : Int))
    (h : ∀ v' w1, w1.ownsRow B 3 1 v' (n + 1) (ints (l ++ [c])) → Below B w0 w1 → Spared w v w1 → wpList Tryd.prog ops Q rest (a.put o.dst v') w1) :
    wpList Tryd.prog ops Q (o :: rest) a (w.alloc (.cells #[.int .i64 z] 3)) := by
  obtain ⟨i0, hi, hz0, hz1, hz2⟩ := info_parts info_int
  have hlt := hown.lt
  refine wpList_append_own _ hgd s x t ho B 3 i0 (.int .i64 0) 1 8 hu hi hz0 hz1 hz2 rfl (by decide) v n (ints l) hs (hown.alloc _) ⟨w.heap.size, 0, none⟩ 1 1 [.int .i64 (c : Int)] hx rfl ?_ ?_ (by unfold maxLen; omega) (by omega) (by simp; omega) ?_
  · intro j u hj
    match j, hj with
    | 0, hj => simp at hj; subst hj; rw [hz]; simp [Addr.add]
  · intro u hu'; simp at hu'; subst hu'; rfl
  · intro v' w1 ho' hgr _
    rw [ints_snoc] at ho'
    refine h v' w1 ho' ((hb.alloc hB _).grown hgr (by simp; omega) (fun k hk => (hlt k hk).1)) ⟨?_, fun k h1 h2 => ?_⟩
    · have := hgr.size
      simp at this; omega
    · rw [hgr.block k (by simp; omega) h2]
      exact Below.heap_alloc _ _ _ h1
def IntP (l : List Nat) (w : World) (e : Ending) (w' : World) : Prop := ∃ v, e = .returned v ∧ w'.ownsRow w.heap.size 3 1 v l.length (ints l) ∧ Below w.heap.size w w'

theorem number_step (l : List Nat) (p k : Nat) (h : p + k < l.length) : numB l p (k + 1) = 2 * numB l p k + l.getD (p + k) 0 := rfl
theorem number_over (l : List Nat) (p k : Nat) (h : l.length ≤ p + k) : numB l p (k + 1) = 2 * numB l p k := by
  simp only [numB]; rw [List.getD_eq_getElem?_getD, List.getElem?_eq_none h]; rfl
set_option maxHeartbeats 1000000 in
theorem number_any (l : List Nat) (hl : B01 l) (a : Option Addr) (n cap p m : Nat) (hn : l.length = n) (w : World) (hr : Ib w a l) (hs : n ≤ 1000000) (hp : p ≤ 1000000) (hm : m ≤ 8) :
    Calls Tryd.prog 24 #[.slice a n cap, .int .i64 p, .int .i64 m] w fun e w' => e = .returned (.int .i64 (numB l p m : Nat)) ∧ w = w' := by
  have HX := Lib.hid (fun i hi => hr.at i hi)
  have HN := Lib.hid hn
  have HL : Hid (∀ k, k ≤ m → numB l p k < 256) := fun k hk => by
    have h := numB_lt hl p k
    have : 2 ^ k ≤ 2 ^ 8 := Nat.pow_le_pow_right (by omega) (by omega)
    omega
  have H1 : Hid (∀ i, l.getD i 0 < 2) := fun i => b01_getD hl i
  have HS : Hid (∀ k, p + k < n → numB l p (k + 1) = 2 * numB l p k + l.getD (p + k) 0) := fun k h => number_step l p k (by omega)
  have HO : Hid (∀ k, n ≤ p + k → numB l p (k + 1) = 2 * numB l p k) := fun k h => number_over l p k (by omega)
  clear hr hl hn
  go_enter Tryd.func24, Tryd.ntmps24
  go_wp2
  go_loop [7, 8] (fun v i => ∃ k : Nat, k ≤ m ∧ i = .int .i64 ((p + k : Nat) : Int) ∧ v = .int .i64 ((numB l p k : Nat) : Int)) (fun _ i => p + m - (intOf i).toNat)
  case atStart => exact ⟨0, Nat.zero_le _, rfl, rfl⟩
  case round =>
    obtain ⟨k, hk, rfl, rfl⟩ := hrel
    have hlk := HL.out k hk
    by_cases hlt : k < m
    · by_cases hin : p + k < n
      · obtain ⟨b, off, rfl, hb, hc⟩ := HX.out (p + k) (by rw [HN.out]; exact hin)
        have h2 := H1.out (p + k)
        have hst := Lib.hid (HS.out k hin)
        generalize hpk : p + k = pk at *
        have hpkh := Lib.hid hpk
        have hpm : (pk : Int) < (p : Int) + m := by omega
        have hpl : pk ≤ 1000008 := by omega
        have hpn : (pk : Int) < n := by omega
        generalize l.getD pk 0 = c at *
        generalize numB l p k = x at *
        clear hpk hlt hin HX HL H1 HS HO
        go_wp2
        go_round
        case rel => exact ⟨k + 1, by have := hpkh.out; omega, by rw [show p + (k + 1) = pk + 1 by have := hpkh.out; omega]; go_num, by rw [hst.out]; go_num⟩
        case measure => simp [intOf]; omega
      · have hst := Lib.hid (HO.out k (by omega))
        generalize hpk : p + k = pk at *
        have hpkh := Lib.hid hpk
        have hpm : (pk : Int) < (p : Int) + m := by omega
        have hpl : pk ≤ 1000008 := by omega
        have hpn : ¬ (pk : Int) < n := by omega
        generalize numB l p k = x at *
        clear hpk hlt hin HX HL H1 HS HO
        go_wp2
        go_round
        case rel => exact ⟨k + 1, by have := hpkh.out; omega, by rw [show p + (k + 1) = pk + 1 by have := hpkh.out; omega]; go_num, by rw [hst.out]; go_num⟩
        case measure => simp [intOf]; omega
    · obtain rfl : k = m := by omega
      generalize hpk : p + k = pk at *
      have hpm : (p : Int) + k ≤ pk := by omega
      have hpl : pk ≤ 1000008 := by omega
      generalize hx : numB l p k = x at *
      have hxh := Lib.hid hx
      clear hx
      clear hpk hlt HX HL H1 HS HO
      go_wp2
      go_ret
      rw [hxh.out]
      exact ⟨rfl, rfl⟩

/-- the powers that the bits are asked at -/
def pw (j : Nat) : Nat := 128 / 2 ^ j
theorem pw_half (j : Nat) : pw j / 2 = pw (j + 1) := by unfold pw; rw [Nat.div_div_eq_div_mul, Nat.pow_succ]
theorem pw_le (j : Nat) : pw j ≤ 128 := Nat.div_le_self _ _
theorem pw_pos (j : Nat) (h : j < 8) : 0 < pw j := by
  have : ∀ j, j < 8 → 0 < pw j := by decide
  exact this j h
theorem bit8_take (c j : Nat) (h : j < 8) : (bit8 c).take (j + 1) = (bit8 c).take j ++ [c / pw j % 2] := by
  rcases (show j = 0 ∨ j = 1 ∨ j = 2 ∨ j = 3 ∨ j = 4 ∨ j = 5 ∨ j = 6 ∨ j = 7 by omega) with rfl | rfl | rfl | rfl | rfl | rfl | rfl | rfl <;> rfl
theorem bits_take (s : List UInt8) (k : Nat) (h : k < s.length) : bitsL (s.take (k + 1)) = bitsL (s.take k) ++ bit8 (s.getD k 0).toNat := by
  rw [List.take_succ_eq_append_getElem h]
  unfold bitsL
  rw [List.flatMap_append, List.flatMap_singleton, List.getD_eq_getElem?_getD, List.getElem?_eq_getElem h]; rfl
set_option maxHeartbeats 2000000 in
theorem bits_any (s : ByteArray) (w : World) (hs : s.size ≤ 100000) :
    Calls Tryd.prog 23 #[.string s] w (IntP (bitsL s.data.toList) w) := by
  have hlen : s.data.toList.length = s.size := by simp
  have HF : Hid (∀ v w', w'.ownsRow w.heap.size 3 1 v (8 * s.size) (ints (bitsL (s.data.toList.take s.size))) → Below w.heap.size w w' → IntP (bitsL s.data.toList) w (.returned v) w') := fun v w' h hb => by
    rw [List.take_of_length_le (by omega)] at h
    exact ⟨v, rfl, by rw [bits_len, hlen]; exact h, hb⟩
  have HB : Hid (∀ k (h : k < s.size), bitsL (s.data.toList.take (k + 1)) = bitsL (s.data.toList.take k) ++ bit8 (s[k]).toNat) := fun k h => by
    rw [bits_take _ _ (by omega), List.getD_eq_getElem?_getD, List.getElem?_eq_getElem (by omega)]; rfl
  have hlenh := Lib.hid hlen
  clear hlen
  generalize hPo : IntP (bitsL s.data.toList) w = Po at *
  clear hPo
  go_enter Tryd.func23, Tryd.ntmps23
  go_wp2
  go_loopw [3, 4] (fun v i wr => ∃ k : Nat, k ≤ s.size ∧ i = .int .i64 k ∧ wr.ownsRow w.heap.size 3 1 v (8 * k) (ints (bitsL (s.data.toList.take k))) ∧ Below w.heap.size w wr) (fun _ i _ => s.size - (intOf i).toNat)
  case atStart => exact ⟨0, Nat.zero_le _, rfl, World.ownsRow_nil _ _ _ _, Below.refl _ _⟩
  case round =>
    obtain ⟨k, hk, rfl, hown, hbel⟩ := hrel
    by_cases hlt : k < s.size
    · have hB := Lib.hid (HB.out k hlt)
      have hc : (s[k]).toNat < 256 := UInt8.toNat_lt _
      have hownh := Lib.hid hown
      have hbelh := Lib.hid hbel
      have hszw := hbel.size
      clear hown hbel
      generalize hx : bitsL (s.data.toList.take k) = bk at *
      generalize hx2 : bitsL (s.data.toList.take (k + 1)) = bk1 at *
      have hx2h := Lib.hid hx2
      clear hx hx2
      go_wp2_with fail
      obtain ⟨wo, rfl⟩ : ∃ wo : World, wo = wr := ⟨_, rfl⟩
      go_loopw [3, 6] (fun v m wr => ∃ j : Nat, j ≤ 8 ∧ m = .int .i64 (pw j : Nat) ∧ wr.ownsRow w.heap.size 3 1 v (8 * k + j) (ints (bk ++ (bit8 (s[k]).toNat).take j)) ∧ Below w.heap.size w wr) (fun _ m _ => (intOf m).toNat)
      case atStart => exact ⟨0, by omega, rfl, by rw [List.take_zero, List.append_nil]; exact hownh.out, hbelh.out⟩
      case round =>
        obtain ⟨j, hj, rfl, hown, hbel⟩ := hrel
        by_cases hlt2 : j < 8
        · have hp := pw_pos j hlt2
          have hple := pw_le j
          have hph := Lib.hid (pw_half j)
          have hbt := Lib.hid (bit8_take (s[k]).toNat j hlt2)
          have hownj := Lib.hid hown
          generalize hcc : (s[k]).toNat = c at *
          have hcch := Lib.hid hcc
          generalize (bit8 c).take j = tj at *
          clear hown hcc
          generalize pw j = q at *
          have hq1 : (0 : Int) ≤ (c : Int) / q := Int.ediv_nonneg (by omega) (by omega)
          have hq2 : (c : Int) / q ≤ 255 := by have := Int.ediv_le_self (a := (c : Int)) (b := q) (by omega); omega
          have hzz : Hid ((c : Int) / q % 2 = ((c / q % 2 : Nat) : Int)) := by show _ = _; omega
          have hszw2 := hbel.size
          have hqq : (q : Int) / 2 = ((q / 2 : Nat) : Int) := by omega
          have hqqh := Lib.hid hqq
          clear hqq
          go_wp2_with (at_builtin; refine append_int rfl (.tmp 21) (.tmp 26) 42 rfl Tryd.underlying42 _ w.heap.size _ (8 * k + j) (bk ++ tj) (c / q % 2) rfl rfl hownj.out w hbel ?c1 ?c2 hzz.out ?_)
          case c1 => omega
          case c2 => omega
          intro v' w3 hown3 hb3 hsp
          clear hsp hq1 hq2
          go_wp2
          go_roundw
          case rel => exact ⟨j + 1, by omega, by rw [← hph.out]; exact congrArg _ hqqh.out, by rw [hbt.out]; exact hown3, hb3⟩
          case measure => simp [intOf]; omega
        · obtain rfl : j = 8 := by omega
          have hBe : Hid (bk ++ (bit8 (s[k]).toNat).take 8 = bk1) := hB.out.symm
          rw [hBe.out] at hown
          have hownj := Lib.hid hown
          clear hown
          have hp8 : ((pw 8 : Nat) : Int) = 0 := rfl
          go_wp2
          go_roundw
          case rel => exact ⟨k + 1, by omega, by go_num, by rw [hx2h.out]; exact hownj.out, hbel⟩
          case measure => simp [intOf]; omega
    · obtain rfl : k = s.size := by omega
      have hfin := Lib.hid (HF.out _ _ hown hbel)
      clear hown
      go_wp2
      exact hfin.out
theorem bits_n (s : ByteArray) (w : World) (hs : s.size ≤ 100000) :
    Calls Tryd.prog 23 #[.string s] w (fun e w' => ∃ a cap, e = .returned (.slice a (8 * s.size) cap) ∧ Ib w' a (bitsL s.data.toList) ∧ Below w.heap.size w w') := by
  refine (bits_any s w hs).mono ?_
  rintro e w' ⟨v, rfl, hown, hb⟩
  obtain ⟨a, cap, rfl, _, _, hib⟩ := ib_of_row hown
  have hbl : (bitsL s.data.toList).length = 8 * s.size := by rw [bits_len]; simp
  exact ⟨a, cap, by rw [hbl], hib, hb⟩
end Go.Proofs.YtaapmndfefjdcaaDoor
