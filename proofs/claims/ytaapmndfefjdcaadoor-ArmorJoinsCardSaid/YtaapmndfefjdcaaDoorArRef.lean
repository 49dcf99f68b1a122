/-
  Helper: the walks of the reference's Hex and Base64.
-/
import Derived.Test.YtaapmndfefjdcaaDoorArBits
import Derived.Laws.IdiomStrings
import Derived.Laws.BytesArg
namespace Go.Proofs.YtaapmndfefjdcaaDoor
open Go.RowKit
set_option linter.unusedVariables false

/-- a text comes back -/
def TxtP (l : List UInt8) (w : World) (e : Ending) (w' : World) : Prop := e = .returned (.string ⟨l.toArray⟩) ∧ Below w.heap.size w w'
theorem conv_rb {w : World} {a : Option Addr} {l : List UInt8} (h : Rb w a l) (n : Nat) (hn : l.length = n) (cap : Nat) : (convert 40 9 (.slice a n cap)).run Tryd.prog w = .ok (.string ⟨l.toArray⟩) w := by
  subst hn
  cases a with
  | none =>
    have hl : l = [] := by
      rcases h with h | ⟨b, off, h, _⟩
      · exact h
      · cases h
    subst hl
    exact run_convert_bytes_nil w 40 5 Tryd.underlying40 Tryd.underlying5 0 cap 9 Tryd.underlying9
  | some ad =>
    refine run_convert_bytes_back w 40 9 5 ad cap l Tryd.underlying40 Tryd.underlying5 Tryd.underlying9 (fun j hj => ?_)
    obtain ⟨ad', he, hc⟩ := rb_src h (by omega)
    cases he
    refine hc j _ ?_
    rw [bytes_get l j hj, List.getD_eq_getElem?_getD, List.getElem?_eq_getElem hj]; rfl
theorem ix_any (l : List UInt8) (k : IntKind) (v : Nat) (h : v < l.length) (W : World) : (Instr.index 9 (.string ⟨l.toArray⟩) (.int k (v : Int))).run Tryd.prog W = .ok (.int .u8 (((l.getD v 0).toNat : Nat) : Int)) W := by
  have hs : (⟨l.toArray⟩ : ByteArray).size = l.length := by simp [ByteArray.size]
  have hi : 0 ≤ (v : Int) ∧ (v : Int) < ((⟨l.toArray⟩ : ByteArray).size : Int) := by rw [hs]; omega
  rw [run_index_string W 9 _ k v Tryd.underlying9, dif_pos hi]
  have e : (⟨l.toArray⟩ : ByteArray)[(v : Int).toNat]'(by rw [hs]; omega) = l.getD v 0 := by
    rw [List.getD_eq_getElem?_getD, List.getElem?_eq_getElem h]
    show l.toArray[(v : Int).toNat]'_ = _
    simp
  rw [e]
theorem ix_hex (k : IntKind) (v : Nat) (h : v < 16) (W : World) : (Instr.index 9 (.string ⟨#[48, 49, 50, 51, 52, 53, 54, 55, 56, 57, 97, 98, 99, 100, 101, 102]⟩) (.int k (v : Int))).run Tryd.prog W = .ok (.int .u8 (((hx v).toNat : Nat) : Int)) W := ix_any HX k v h W
theorem ix_six (k : IntKind) (v : Nat) (h : v < 64) (W : World) : (Instr.index 9 (.string ⟨#[65, 66, 67, 68, 69, 70, 71, 72, 73, 74, 75, 76, 77, 78, 79, 80, 81, 82, 83, 84, 85, 86, 87, 88, 89, 90, 97, 98, 99, 100, 101, 102, 103, 104, 105, 106, 107, 108, 109, 110, 111, 112, 113, 114, 115, 116, 117, 118, 119, 120, 121, 122, 48, 49, 50, 51, 52, 53, 54, 55, 56, 57, 43, 47]⟩) (.int k (v : Int))).run Tryd.prog W = .ok (.int .u8 (((sx v).toNat : Nat) : Int)) W := ix_any SX k v h W
theorem hexR_len (s : List UInt8) (k : Nat) : (hexR s k).length = k := by unfold hexR; simp

set_option maxHeartbeats 2000000 in
theorem refHex_any (s : ByteArray) (w : World) (hs : s.size ≤ 100000) :
    Calls Tryd.prog 13 #[.string s] w (TxtP (hexA s.data.toList) w) := by
  have hlen : s.data.toList.length = s.size := by simp
  have HF : Hid (∀ w', Below w.heap.size w w' → TxtP (hexA s.data.toList) w (.returned (.string ⟨(hexR s.data.toList (2 * s.size)).toArray⟩)) w') := fun w' hb => ⟨by rw [← hexR_eq, hlen], hb⟩
  have HS : Hid (∀ k, hexR s.data.toList (k + 1) = hexR s.data.toList k ++ [hx (numB (bitsL s.data.toList) (4 * k) 4)]) := fun k => hexR_succ _ k
  have HL : Hid (∀ k, (hexR s.data.toList k).length = k) := fun k => hexR_len _ k
  have hbl : (bitsL s.data.toList).length = 8 * s.size := by rw [bits_len, hlen]
  have H01 := Lib.hid (b01_bits s.data.toList)
  have HBC := Lib.hid (bits_n s w hs)
  have hblh := Lib.hid hbl
  clear hlen hbl
  generalize hPo : TxtP (hexA s.data.toList) w = Po at *
  clear hPo
  generalize s.data.toList = l at *
  go_enter Tryd.func13, Tryd.ntmps13
  go_wp2_with fail
  refine HBC.out.mono ?_
  rintro e w1 ⟨a, cap, rfl, hib, hb1⟩
  have HIB := Lib.hid hib
  have hb1h := Lib.hid hb1
  have hsz1 := hb1.size
  clear hib hb1 HBC
  go_wp2
  go_loopw [4, 5] (fun v i wr => ∃ k : Nat, k ≤ 2 * s.size ∧ i = .int .i64 ((4 * k : Nat) : Int) ∧ wr.ownsRow w1.heap.size 5 1 v k (bytes (hexR l k)) ∧ Below w1.heap.size w1 wr) (fun _ i _ => 8 * s.size - (intOf i).toNat)
  case atStart => exact ⟨0, Nat.zero_le _, rfl, World.ownsRow_nil _ _ _ _, Below.refl _ _⟩
  case round =>
    obtain ⟨k, hk, rfl, hown, hbel⟩ := hrel
    by_cases hlt : k < 2 * s.size
    · have hst := Lib.hid (HS.out k)
      have hnlt : numB (bitsL l) (4 * k) 4 < 16 := numB_lt H01.out _ _
      have HN : Hid (∀ W, Below w1.heap.size w1 W → Calls Tryd.prog 24 #[.slice a (8 * s.size : Nat) cap, .int .i64 ((4 * k : Nat) : Int), .int .i64 4] W fun e w' => e = .returned (.int .i64 (numB (bitsL l) (4 * k) 4 : Nat)) ∧ W = w') := fun W hW =>
        number_any (bitsL l) H01.out a (8 * s.size) cap (4 * k) 4 hblh.out W (HIB.out.below hW (Nat.le_refl _)) (by omega) (by omega) (by omega)
      have hownh := Lib.hid hown
      have hszw := hbel.size
      generalize numB (bitsL l) (4 * k) 4 = x at *
      have hix := ix_hex .i64 x hnlt wr
      have hh256 : (hx x).toNat < 256 := UInt8.toNat_lt _
      have hk8 : ((4 * k : Nat) : Int) < ((8 * s.size : Nat) : Int) := by omega
      have h4k : 4 * k ≤ 8 * s.size := by omega
      generalize h4 : 4 * k = k4 at *
      have h4h := Lib.hid h4
      have h8 : 8 * s.size ≤ 800000 := by omega
      have hk100 : k ≤ 100000000 := by omega
      generalize h8s : 8 * s.size = n8 at *
      have h8h := Lib.hid h8s
      clear h4 h8s hown hlt
      go_wp2_with fail
      refine (HN.out _ hbel).mono ?_
      rintro e w2 ⟨rfl, rfl⟩
      go_wp2_with (at_builtin; refine append_byte rfl (.tmp 14) (.tmp 19) 40 rfl Tryd.underlying40 _ w1.heap.size _ k (hexR l k) (hx x) rfl rfl hownh.out w1 hbel ?c1 ?c2 rfl ?_)
      case c1 => omega
      case c2 => omega
      intro v' w3 hown3 hb3 hsp
      clear hsp hix
      go_wp2
      go_roundw
      case rel => exact ⟨k + 1, by have := h8h.out; have := h4h.out; omega, by rw [show 4 * (k + 1) = k4 + 4 by have := h4h.out; omega]; go_num, by rw [hst.out]; exact hown3, hb3⟩
      case measure => simp [intOf]; omega
    · obtain rfl : k = 2 * s.size := by omega
      have hll := Lib.hid (HL.out (2 * s.size))
      obtain ⟨a2, cap2, rfl, hq1, hq2, hrb⟩ := rb_of_row hown
      clear hq1 hq2
      have hcv := conv_rb hrb (2 * s.size) hll.out cap2
      have hfin := Lib.hid (HF.out _ (hb1h.out.trans (hbel.mono hsz1)))
      have h4 : ((4 * (2 * s.size) : Nat) : Int) = ((8 * s.size : Nat) : Int) := by omega
      generalize hexR l (2 * s.size) = r at *
      rw [show 4 * (2 * s.size) = 8 * s.size by omega] at *
      clear hown hrb h4
      go_wp2
      exact hfin.out

theorem padd_self (l : List UInt8) (j : Nat) (h : (l.length + j) % 4 = 0) (hj : j ≤ (4 - l.length % 4) % 4) : l ++ List.replicate j 61 = padd l := by
  unfold padd
  rw [show j = (4 - l.length % 4) % 4 by omega]
set_option maxHeartbeats 4000000 in
theorem refB64_any (s : ByteArray) (w : World) (hs : s.size ≤ 100000) :
    Calls Tryd.prog 17 #[.string s] w (TxtP (b64A s.data.toList) w) := by
  have hlen : s.data.toList.length = s.size := by simp
  have HF : Hid (∀ w', Below w.heap.size w w' → TxtP (b64A s.data.toList) w (.returned (.string ⟨(padd (b64R s.data.toList ((8 * s.size + 5) / 6))).toArray⟩)) w') := fun w' hb => ⟨by rw [← b64_eq, hlen], hb⟩
  have HS : Hid (∀ k, b64R s.data.toList (k + 1) = b64R s.data.toList k ++ [sx (numB (bitsL s.data.toList) (6 * k) 6)]) := fun k => b64R_succ _ k
  have HL : Hid (∀ k, (b64R s.data.toList k).length = k) := fun k => b64R_len _ k
  have hbl : (bitsL s.data.toList).length = 8 * s.size := by rw [bits_len, hlen]
  have H01 := Lib.hid (b01_bits s.data.toList)
  have HBC := Lib.hid (bits_n s w hs)
  have hblh := Lib.hid hbl
  clear hlen hbl
  generalize hPo : TxtP (b64A s.data.toList) w = Po at *
  clear hPo
  generalize s.data.toList = l at *
  generalize hD : (8 * s.size + 5) / 6 = D at *
  have hD1 : 8 * s.size ≤ 6 * D := by omega
  have hD2 : 6 * D ≤ 8 * s.size + 5 := by omega
  clear hD
  go_enter Tryd.func17, Tryd.ntmps17
  go_wp2_with fail
  refine HBC.out.mono ?_
  rintro e w1 ⟨a, cap, rfl, hib, hb1⟩
  have HIB := Lib.hid hib
  have hb1h := Lib.hid hb1
  have hsz1 := hb1.size
  clear hib hb1 HBC
  go_wp2
  go_loopw [4, 5] (fun v i wr => ∃ k : Nat, k ≤ D ∧ i = .int .i64 ((6 * k : Nat) : Int) ∧ wr.ownsRow w1.heap.size 5 1 v k (bytes (b64R l k)) ∧ Below w1.heap.size w1 wr) (fun _ i _ => 8 * s.size + 6 - (intOf i).toNat)
  case atStart => exact ⟨0, Nat.zero_le _, rfl, World.ownsRow_nil _ _ _ _, Below.refl _ _⟩
  case round =>
    obtain ⟨k, hk, rfl, hown, hbel⟩ := hrel
    by_cases hlt : 6 * k < 8 * s.size
    · have hst := Lib.hid (HS.out k)
      have hnlt : numB (bitsL l) (6 * k) 6 < 64 := numB_lt H01.out _ _
      have HN : Hid (∀ W, Below w1.heap.size w1 W → Calls Tryd.prog 24 #[.slice a (8 * s.size : Nat) cap, .int .i64 ((6 * k : Nat) : Int), .int .i64 6] W fun e w' => e = .returned (.int .i64 (numB (bitsL l) (6 * k) 6 : Nat)) ∧ W = w') := fun W hW =>
        number_any (bitsL l) H01.out a (8 * s.size) cap (6 * k) 6 hblh.out W (HIB.out.below hW (Nat.le_refl _)) (by omega) (by omega) (by omega)
      have hownh := Lib.hid hown
      have hszw := hbel.size
      generalize numB (bitsL l) (6 * k) 6 = x at *
      have hix := ix_six .i64 x hnlt wr
      have hh256 : (sx x).toNat < 256 := UInt8.toNat_lt _
      have hk8 : ((6 * k : Nat) : Int) < ((8 * s.size : Nat) : Int) := by omega
      have hk1 : k + 1 ≤ D := by omega
      have h4k : 6 * k ≤ 8 * s.size := by omega
      generalize h4 : 6 * k = k4 at *
      have h4h := Lib.hid h4
      have h8 : 8 * s.size ≤ 800000 := by omega
      have hk100 : k ≤ 100000000 := by omega
      generalize h8s : 8 * s.size = n8 at *
      have h8h := Lib.hid h8s
      clear h4 h8s hown hlt
      go_wp2_with fail
      refine (HN.out _ hbel).mono ?_
      rintro e w2 ⟨rfl, rfl⟩
      go_wp2_with (at_builtin; refine append_byte rfl (.tmp 14) (.tmp 19) 40 rfl Tryd.underlying40 _ w1.heap.size _ k (b64R l k) (sx x) rfl rfl hownh.out w1 hbel ?c1 ?c2 rfl ?_)
      case c1 => omega
      case c2 => omega
      intro v' w3 hown3 hb3 hsp
      clear hsp hix
      go_wp2
      go_roundw
      case rel => exact ⟨k + 1, hk1, by rw [show 6 * (k + 1) = k4 + 6 by have := h4h.out; omega]; go_num, by rw [hst.out]; exact hown3, hb3⟩
      case measure => simp [intOf]; omega
    · have hkD : k = D := by omega
      rw [hkD] at hown
      have hl0 := Lib.hid (HL.out D)
      have hDs : D ≤ 200000 := by omega
      have hge : decide (6 * k < 8 * s.size) = false := decide_eq_false hlt
      have hownh := Lib.hid hown
      have hbelh := Lib.hid hbel
      have HPS : Hid (∀ j, (D + j) % 4 = 0 → j ≤ (4 - D % 4) % 4 → b64R l D ++ List.replicate j 61 = padd (b64R l D)) := fun j h1 h2 => padd_self _ j (by rw [hl0.out]; exact h1) (by rw [hl0.out]; exact h2)
      clear hkD hown hbel hlt
      generalize b64R l D = r at *
      generalize 6 * k = k6 at *
      generalize 8 * s.size = n8 at *
      go_wp2_with fail
      obtain ⟨wo, rfl⟩ : ∃ wo : World, wo = wr := ⟨_, rfl⟩
      go_loopg [4] ((4 - D % 4) % 4) (fun gk v wr => ∃ j : Nat, j + gk = (4 - D % 4) % 4 ∧ wr.ownsRow w1.heap.size 5 1 v (D + j) (bytes (r ++ List.replicate j 61)) ∧ Below w1.heap.size w1 wr)
      case atStart => exact ⟨0, by omega, by rw [List.replicate_zero, List.append_nil]; exact hownh.out, hbelh.out⟩
      case round =>
        obtain ⟨j, hj, hown, hbel⟩ := hrel
        have hownj := Lib.hid hown
        obtain ⟨a2, cap2, rfl, hq1, hq2, hrb⟩ := rb_of_row hown
        clear hq1 hq2 hown
        have hszw := hbel.size
        by_cases hm : (D + j) % 4 = 0
        · have hpe := Lib.hid (HPS.out j hm (by omega))
          rw [hpe.out] at hrb
          have hlj : Hid ((padd r).length = D + j) := by
            show _ = _
            rw [← hpe.out, List.length_append, List.length_replicate, hl0.out]
          have hcv := conv_rb hrb (D + j) hlj.out cap2
          have hfin := Lib.hid (HF.out _ (hb1h.out.trans (hbel.mono hsz1)))
          generalize padd r = pr at *
          have hmd : (((D + j : Nat) : Int) % 4 != 0) = false := by
            rw [bne_eq_false_iff_eq]; omega
          generalize D + j = dj at *
          clear hrb hm HPS hpe
          go_wp2
          exact hfin.out
        · have hmd : (((D + j : Nat) : Int) % 4 != 0) = true := by
            rw [bne_iff_ne]; omega
          have hj1 : 0 < gk := by omega
          have hj2 : j + 1 + (gk - 1) = (4 - D % 4) % 4 := by omega
          have hj2h := Lib.hid hj2
          clear hj2
          have hdj : D + j ≤ 200005 := by omega
          clear hj
          generalize hdd : D + j = dj at *
          have hddh := Lib.hid hdd
          clear hdd hm hrb HPS
          go_wp2_with (at_builtin; refine append_byte rfl (.tmp 25) (.tmp 26) 40 rfl Tryd.underlying40 _ w1.heap.size _ dj (r ++ List.replicate j 61) 61 rfl rfl hownj.out w1 hbel ?c1 ?c2 rfl ?_)
          case c1 => omega
          case c2 => omega
          intro v' w3 hown3 hb3 hsp
          clear hsp
          obtain ⟨a3, cap3, rfl, hq1, hq2, hrb⟩ := rb_of_row hown3
          clear hq1 hq2 hrb
          go_wp2
          go_roundg (gk - 1)
          case rel => exact ⟨j + 1, hj2h.out, by rw [List.replicate_succ', show D + (j + 1) = dj + 1 by have := hddh.out; omega]; exact hown3, hb3⟩
          case measure => omega
end Go.Proofs.YtaapmndfefjdcaaDoor
