/-
  Helper: the tables; the walks of padded and inRange.
-/
import Derived.Test.YtckeefjmamggmaaDoorInBase
import Derived.Test.YtckeefjmamggmaaDoorJcDate
import Derived.Lib.ItoaMem
import Derived.Lib.LaidTab
namespace Go.Proofs.YtckeefjmamggmaaDoor
open Go.RowKit
set_option linter.unusedVariables false

def lim (k : Nat) : Nat := [9999, 12, 31, 23, 59, 59, 23, 59].getD k 0
/-- the tables that the walks read -/
def Tabs (w : World) : Prop := 4 ≤ w.heap.size ∧ LTab w ∧ (∀ k, k < 8 → w.cell? ⟨0, k, none⟩ = some (.int .i64 (lim k : Nat))) ∧ Lib.TabIs Tryd.prog w "internal/strconv.uint64pow10" .u64 Lib.pow10Tab
theorem pow_global : Tryd.prog.globalNamed "internal/strconv.uint64pow10" = some 3 := by kernel_rfl
theorem Tabs.below {B : Nat} {w w' : World} (h : Tabs w) (hb : Below B w w') (hB : 4 ≤ B) : Tabs w' := by
  refine ⟨Nat.le_trans h.1 hb.size, h.2.1.below hb (by omega), fun k hk => ?_, ?_⟩
  · rw [hb.cell (p := ⟨0, k, none⟩) (show 0 < B by omega)]; exact h.2.2.1 k hk
  · have h4 := h.2.2.2
    unfold Lib.TabIs World.var? at *
    rw [pow_global] at h4 ⊢
    simp only [Option.bind_some] at h4 ⊢
    rw [hb.block 3 (by omega)]
    exact h4
theorem Tabs.go {w w' : World} (h : Tabs w) (hb : Below w.heap.size w w') : Tabs w' := h.below hb h.1
theorem Tabs.drewN {w : World} (h : Tabs w) (k : Nat) : Tabs (w.drewN k) := h

/-- a number with so many digits -/
def padL (n wd : Nat) : List UInt8 := List.replicate (wd - (Lib.decDigits n).length) 48 ++ Lib.decDigits n
theorem itoa_any (n : Nat) (hn : n ≤ 2000000000) (w : World) (hT : Tabs w) : Calls Tryd.prog 62 #[.int .i64 (n : Int)] w fun e w' => e = .returned (.string ⟨(Lib.decDigits n).toArray⟩) ∧ Below w.heap.size w w' := by
  refine (Tryd.strconv_Itoa (n : Int) (by omega) (by omega) w hT.2.2.2).mono ?_
  rintro e w' ⟨h1, k, os, h2⟩
  refine ⟨?_, by rw [h2]; exact below_grow _ _ _ _ (Nat.le_refl _)⟩
  rw [h1]
  unfold Lib.itoa
  rw [if_neg (by omega)]
  rfl
theorem rep_l (c : Nat) : Lib.repeatL (⟨#[48]⟩ : ByteArray).data.toList c = List.replicate c 48 := by
  induction c with
  | zero => rfl
  | succ c ih => rw [List.replicate_succ, ← ih]; rfl
theorem repeat_zero2 (c : Nat) (w : World) (hc : c ≤ 20) : Calls Tryd.prog 45 #[.string ⟨#[48]⟩, .int .i64 (c : Int)] w fun e w' => e = .returned (.string ⟨(List.replicate c 48).toArray⟩) ∧ Below w.heap.size w w' := by
  by_cases h0 : c = 0
  · subst h0
    exact (Tryd.strings_Repeat_zero ⟨#[48]⟩ w).mono fun e w' ⟨h1, h2⟩ => ⟨h1, by rw [h2]; exact Below.refl _ _⟩
  · by_cases h1 : c = 1
    · subst h1
      exact (Tryd.strings_Repeat_one ⟨#[48]⟩ w).mono fun e w' ⟨h1, h2⟩ => ⟨h1, by rw [h2]; exact Below.refl _ _⟩
    · refine (Tryd.strings_Repeat_main ⟨#[48]⟩ c w (by omega) (by omega) (by show 1 * c ≤ _; omega) (by decide)).mono fun e w' ⟨h1, h2⟩ => ⟨?_, h2⟩
      rw [h1]
      congr 4
      exact rep_l c
theorem ba_ext (a b : ByteArray) (h : a.data.toList = b.data.toList) : a = b := by
  obtain ⟨⟨x⟩⟩ := a
  obtain ⟨⟨y⟩⟩ := b
  simp at h
  rw [h]
theorem mk_app (x y : List UInt8) : (⟨(x ++ y).toArray⟩ : ByteArray) = ⟨x.toArray⟩ ++ ⟨y.toArray⟩ := ba_ext _ _ (by simp)
set_option maxHeartbeats 1000000 in
theorem padded_any (n wd : Nat) (hn : n ≤ 2000000000) (hw : wd ≤ 20) (w : World) (hT : Tabs w) (hl : (Lib.decDigits n).length ≤ 20) : Calls Tryd.prog 48 #[.int .i64 (n : Int), .int .i64 (wd : Int)] w fun e w' => e = .returned (.string ⟨(padL n wd).toArray⟩) ∧ Below w.heap.size w w' := by
  have HI := Lib.hid (itoa_any n hn w hT)
  have HR := Lib.hid (fun W => repeat_zero2 (wd - (Lib.decDigits n).length) W (by omega))
  have he : padL n wd = List.replicate (wd - (Lib.decDigits n).length) 48 ++ Lib.decDigits n := rfl
  rw [he, mk_app]
  obtain ⟨d, hd, hds⟩ : ∃ d : ByteArray, d = ⟨(Lib.decDigits n).toArray⟩ ∧ d.size = (Lib.decDigits n).length := ⟨_, rfl, by simp [ByteArray.size]⟩
  obtain ⟨rp, hrp, hrs⟩ : ∃ rp : ByteArray, rp = ⟨(List.replicate (wd - (Lib.decDigits n).length) 48).toArray⟩ ∧ rp.size ≤ 20 := ⟨_, rfl, by simp [ByteArray.size]; omega⟩
  rw [← hd] at HI ⊢
  rw [← hrp] at HR ⊢
  rw [← hds] at HR
  rw [← hds] at hl
  have hli : (d.size : Int) ≤ 20 := by omega
  have hwi : (wd : Int) ≤ 20 := by omega
  clear he hd hds hrp hl
  by_cases hc : d.size ≤ wd
  · have e1 : (wd : Int) - (d.size : Int) = ((wd - d.size : Nat) : Int) := by omega
    have e0 : (0 : Int) ≤ (wd : Int) - (d.size : Int) := by omega
    go_enter Tryd.func48, Tryd.ntmps48
    go_wp2_with fail
    refine HI.out.mono ?_
    rintro e w1 ⟨rfl, hb1⟩
    have hb1h := Lib.hid hb1
    clear hb1
    go_wp2_with fail
    refine (HR.out _).mono ?_
    rintro e w2 ⟨rfl, hb2⟩
    have hb := bt hb1h hb2
    clear hb2
    go_wp2
    go_ret
    exact ⟨rfl, hb.out⟩
  · have e1 : max (0 : Int) ((wd : Int) - (d.size : Int)) = 0 := by omega
    have hz : wd - d.size = 0 := by omega
    rw [hz] at HR
    have HR0 : Hid (∀ W, Calls Tryd.prog 45 #[.string ⟨#[48]⟩, .int .i64 0] W fun e w' => e = .returned (.string rp) ∧ Below W.heap.size W w') := HR.out
    clear hz HR hc
    go_enter Tryd.func48, Tryd.ntmps48
    go_wp2_with fail
    refine HI.out.mono ?_
    rintro e w1 ⟨rfl, hb1⟩
    have hb1h := Lib.hid hb1
    clear hb1
    go_wp2_with fail
    refine (HR0.out _).mono ?_
    rintro e w2 ⟨rfl, hb2⟩
    have hb := bt hb1h hb2
    clear hb2
    go_wp2
    go_ret
    exact ⟨rfl, hb.out⟩
end Go.Proofs.YtckeefjmamggmaaDoor
