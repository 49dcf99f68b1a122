/-
  Helper: the walks of bitLength, Fits, Magnitude, number.compare, Cmp, Neg, Text.
-/
import Derived.Test.YtmnopohjnbpinabICalc
namespace Go.Proofs.Ytmnopohjnbpinab
open Go.RowKit
set_option linter.unusedVariables false

/-- the number of bits -/
def blL : List UInt8 → Nat
  | [] => 0
  | c :: l => 8 * l.length + Lib.bitLen c.toNat
def bl (n : Nat) : Nat := blL (E 256 n).reverse
theorem bitLen8 (c : UInt8) : Lib.bitLen c.toNat ≤ 8 := by
  have h : c.toNat < 256 := UInt8.toNat_lt c
  have : ∀ n, n < 256 → Lib.bitLen n ≤ 8 := by decide +kernel
  exact this _ h
set_option maxRecDepth 100000 in
set_option maxHeartbeats 1000000 in
theorem bitLength_any (n : Nat) (a : Option Addr) (cap : Nat) (w : World) (hr : Rb w a (E 10 n)) (hs : (E 10 n).length ≤ 100000) (hsb : (E 256 n).length ≤ 900000) :
    Calls Try.prog 63 #[.slice a (E 10 n).length cap] w fun e w' => e = .returned (.int .i64 ((bl n : Nat) : Int)) ∧ Below w.heap.size w w' := by
  have HI : Hid (Calls Try.prog 61 #[.slice a (E 10 n).length cap, .int .i64 (256 : Int)] w (BytP (E 256 n).reverse w)) := nInBase_any n 256 (by omega) (by omega) a cap w hr hs (by omega)
  have hl : (E 256 n).reverse.length ≤ 900000 := by rw [List.length_reverse]; exact hsb
  have hbl := Lib.hid (show bl n = blL (E 256 n).reverse from rfl)
  clear hr hsb
  generalize bl n = r at *
  generalize (E 256 n).reverse = l at *
  generalize (E 10 n).length = ln at *
  go_enter Try.func63, Try.ntmps63
  go_wp2_with fail
  refine HI.out.mono ?_
  rintro e w1 ⟨v, rfl, ho, hb1⟩
  obtain ⟨va, vc, rfl, _, _, hrb⟩ := rb_of_row ho
  cases l with
  | nil =>
    have hr0 : Hid (r = 0) := hbl.out
    clear ho hrb
    rw [show ([] : List UInt8).length = 0 from rfl]
    go_wp2
    go_ret
    rw [hr0.out]; exact ⟨rfl, hb1⟩
  | cons c l =>
    have hr1 : Hid (r = 8 * l.length + Lib.bitLen c.toNat) := hbl.out
    obtain ⟨bb, off, rfl, hlt, hc⟩ := hrb.at 0 (by simp)
    have hc0 : w1.cell? ⟨bb, off, none⟩ = some (.int .u8 (c.toNat : Int)) := hc
    have h8 := bitLen8 c
    have hc256 : c.toNat < 256 := UInt8.toNat_lt c
    have hll : (c :: l).length = l.length + 1 := rfl
    rw [hll] at hl ⊢
    have hlen := Lib.hid (Try.bits_Len8 (c.toNat : Int) w1 (by omega) (by omega))
    rw [Int.toNat_natCast] at hlen
    have hk8 : (0 : Int) ≤ 8 * (l.length : Int) := by omega
    clear ho hrb hc hbl
    generalize l.length = k at *
    generalize Lib.bitLen c.toNat = bt at *
    generalize c.toNat = x at *
    have e1 : ((k + 1 : Nat) : Int) - 1 = (k : Int) := by omega
    go_wp2_with fail
    refine hlen.out.mono ?_
    rintro e w2 ⟨rfl, hw⟩
    obtain rfl := hw.symm
    go_wp2
    go_ret
    rw [hr1.out]
    exact ⟨by push_cast; rfl, hb1⟩

/-- Fits reads the number of bits of the magnitude, one less if the number is negative -/
def fitN (z : Int) : Nat := if z < 0 then z.natAbs - 1 else z.natAbs
theorem len256 (n k : Nat) (h : (E 10 n).length ≤ k) : (E 256 n).length ≤ k := by
  have h1 := (E_len_le 10 n k (by omega)).1 h
  exact (E_len_le 256 n k (by omega)).2 (Nat.lt_of_lt_of_le h1 (Nat.pow_le_pow_left (by omega) k))
set_option maxRecDepth 100000 in
set_option maxHeartbeats 2000000 in
theorem Fits_yes (z : Int) (hz : Sh z) (s : ByteArray) (hs : s.data.toList = T z) (bits : Int) (w : World) : Calls Try.prog 32 #[.string s, .int .i64 bits] w fun e w' => e = .returned (.bool (decide ((bl (fitN z) : Int) < bits))) ∧ Below w.heap.size w w' := by
  have HA := Lib.hid (fun W => read_yes z hz s hs W)
  have hz4 : (E 10 z.natAbs).length ≤ 400 := hz
  have hf4 : (E 10 (fitN z)).length ≤ 400 := Nat.le_trans (E_len_mono 10 _ _ (by omega) (show fitN z ≤ z.natAbs by unfold fitN; split <;> omega)) hz4
  have HL := Lib.hid (fun a cap W hr => bitLength_any (fitN z) a cap W hr (by omega) (Nat.le_trans (len256 _ _ hf4) (by omega)))
  clear hs hz
  by_cases h0 : z < 0
  · have hfz : fitN z = z.natAbs - 1 := by unfold fitN; rw [if_pos h0]
    have HM := Lib.hid (fun a n W h1 h2 => minus_any z.natAbs 1 a (some ⟨n, 0, none⟩) h1 1 W h2)
    have hn : neg z = true := decide_eq_true h0
    have hz1 : 1 ≤ z.natAbs := by omega
    rw [← hfz] at HM
    generalize hq : bl (fitN z) = q at *
    clear hfz hq h0
    go_enter Try.func32, Try.ntmps32
    go_wp2_with fail
    refine (HA.out _).mono ?_
    rintro e w1 ⟨ax, cx, rfl, hrx, hcx, h1⟩
    rw [hn]
    have hrxh := Lib.hid hrx
    clear hrx hcx hn
    generalize hlx : (E 10 z.natAbs).length = lx at *
    go_wp2_with fail
    have hb2 : Below w1.heap.size w1 ((w1.alloc (.cells #[.bool true, .slice ax lx cx] 70)).alloc (.cells #[.int .u8 1] 5)) := ((Below.refl _ _).alloc (Nat.le_refl _) _).alloc (by simp) _
    have hone : Rb ((w1.alloc (.cells #[.bool true, .slice ax lx cx] 70)).alloc (.cells #[.int .u8 1] 5)) (some ⟨w1.heap.size + 1, 0, none⟩) (E 10 1) := by
      have := (Row.new (w1.alloc (.cells #[.bool true, .slice ax lx cx] 70)) 5 [1]).rb
      rw [show (w1.alloc (.cells #[.bool true, .slice ax lx cx] 70)).heap.size = w1.heap.size + 1 by simp] at this
      exact this
    refine (HM.out ax _ _ cx (hrxh.out.go hb2) hone (by omega) hz1).mono ?_
    rintro e w2 ⟨ma, mc, rfl, hm1, hm2, _, h3⟩
    have hl := Lib.hid (HL.out ma mc w2 hm1)
    have hw2 : Below w.heap.size w w2 := (h1.trans (hb2.mono h1.size)).trans (h3.mono (Nat.le_trans h1.size hb2.size))
    clear hm1 hm2 h3 hb2 h1 hone HM hlx
    generalize (E 10 (fitN z)).length = lf at *
    go_wp2_with fail
    refine hl.out.mono ?_
    rintro e w3 ⟨rfl, h4⟩
    go_wp2
    go_ret
    exact ⟨rfl, hw2.trans (h4.mono hw2.size)⟩
  · have hfz : fitN z = z.natAbs := by unfold fitN; rw [if_neg h0]
    have hn : neg z = false := decide_eq_false h0
    rw [hfz] at HL ⊢
    generalize hq : bl z.natAbs = q at *
    clear hfz hq h0 hf4
    go_enter Try.func32, Try.ntmps32
    go_wp2_with fail
    refine (HA.out _).mono ?_
    rintro e w1 ⟨ax, cx, rfl, hrx, hcx, h1⟩
    rw [hn]
    have hrxh := Lib.hid hrx
    clear hrx hcx hn
    have hl0 := Lib.hid (fun W h => HL.out ax cx W (hrxh.out.go h))
    clear HL
    generalize hlx : (E 10 z.natAbs).length = lx at *
    go_wp2_with fail
    have hb2 : Below w1.heap.size w1 (w1.alloc (.cells #[.bool false, .slice ax lx cx] 70)) := (Below.refl _ _).alloc (Nat.le_refl _) _
    refine (hl0.out _ hb2).mono ?_
    rintro e w3 ⟨rfl, h4⟩
    have hw2 := h1.trans (hb2.mono h1.size)
    go_wp2
    go_ret
    exact ⟨rfl, hw2.trans (h4.mono hw2.size)⟩
set_option maxRecDepth 100000 in
set_option maxHeartbeats 1000000 in
theorem Fits_no (s : ByteArray) (hs : s.size ≤ maxLen) (h : ¬ Vld s.data.toList) (bits : Int) (w : World) : Calls Try.prog 32 #[.string s, .int .i64 bits] w fun e w' => e = .returned (.bool false) ∧ Below w.heap.size w w' := by
  have HA := Lib.hid (fun W => read_no s W hs h)
  clear h hs
  go_enter Try.func32, Try.ntmps32
  go_wp2_with fail
  refine (HA.out _).mono ?_
  rintro e w1 ⟨rfl, h1⟩
  go_wp2
  go_ret
  exact ⟨rfl, h1.alloc h1.size _⟩

set_option maxRecDepth 100000 in
set_option maxHeartbeats 1000000 in
theorem Magnitude_yes (z : Int) (hz : Sh z) (s : ByteArray) (hs : s.data.toList = T z) (w : World) : Calls Try.prog 30 #[.string s] w (TxtP (E 256 z.natAbs).reverse w) := by
  have HA := Lib.hid (fun W => read_yes z hz s hs W)
  have hz4 : (E 10 z.natAbs).length ≤ 400 := hz
  have HI : Hid (∀ a cap W, Rb W a (E 10 z.natAbs) → Calls Try.prog 61 #[.slice a (E 10 z.natAbs).length cap, .int .i64 (256 : Int)] W (BytP (E 256 z.natAbs).reverse W)) := fun a cap W hr => nInBase_any z.natAbs 256 (by omega) (by omega) a cap W hr (by omega) (Nat.le_trans (len256 _ _ hz4) (by omega))
  have HF : Hid (∀ w', Below w.heap.size w w' → TxtP (E 256 z.natAbs).reverse w (.returned (.string ⟨((E 256 z.natAbs).reverse).toArray⟩)) w') := fun w' h => ⟨rfl, h⟩
  clear hs hz hz4
  generalize hPo : TxtP (E 256 z.natAbs).reverse w = Po at *
  clear hPo
  generalize (E 256 z.natAbs).reverse = m at *
  go_enter Try.func30, Try.ntmps30
  go_wp2_with fail
  refine (HA.out _).mono ?_
  rintro e w1 ⟨ax, cx, rfl, hrx, hcx, h1⟩
  have hi := Lib.hid (fun W h => HI.out ax cx W (hrx.go h))
  clear hrx hcx HI
  generalize neg z = bz at *
  generalize (E 10 z.natAbs).length = lx at *
  have hb2 : Below w1.heap.size w1 (w1.alloc (.cells #[.bool bz, .slice ax lx cx] 70)) := (Below.refl _ _).alloc (Nat.le_refl _) _
  have hw2 := Lib.hid (h1.trans (hb2.mono h1.size))
  go_wp2_with fail
  refine (hi.out _ hb2).mono ?_
  rintro e w3 ⟨v, rfl, ho, h4⟩
  obtain ⟨va, vc, rfl, _, _, hrb⟩ := rb_of_row ho
  have hcv := conv_rb hrb vc
  have hfin := Lib.hid (HF.out w3 (hw2.out.trans (h4.mono hw2.out.size)))
  clear ho hrb h4 hb2 h1
  go_wp2
  exact hfin.out
set_option maxRecDepth 100000 in
set_option maxHeartbeats 1000000 in
theorem Magnitude_no (s : ByteArray) (hs : s.size ≤ maxLen) (h : ¬ Vld s.data.toList) (w : World) : Calls Try.prog 30 #[.string s] w (TxtP [] w) := by
  have HA := Lib.hid (fun W => read_no s W hs h)
  have HF : Hid (∀ w', Below w.heap.size w w' → TxtP [] w (.returned (.string ⟨#[]⟩)) w') := fun w' h => ⟨rfl, h⟩
  clear h hs
  generalize TxtP [] w = Po at *
  go_enter Try.func30, Try.ntmps30
  go_wp2_with fail
  refine (HA.out _).mono ?_
  rintro e w1 ⟨rfl, h1⟩
  have hfin := Lib.hid (fun o => HF.out (w1.alloc o) (h1.alloc h1.size _))
  go_wp2
  exact hfin.out _
end Go.Proofs.Ytmnopohjnbpinab
