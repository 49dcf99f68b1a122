/-
  Helper: the walks of seconds, fraction, written and canonical.
-/
import Derived.Test.YtckeefjmamggmaaDoorInRng
import Derived.Lib.Join
namespace Go.Proofs.YtckeefjmamggmaaDoor
open Go.RowKit
set_option linter.unusedVariables false

/-- the seconds of a moment -/
def sec (f : List Nat) (zo : Nat) : Int :=
  dn ((f.getD 0 0 : Nat) : Int) ((f.getD 1 0 : Nat) : Int) ((f.getD 2 0 : Nat) : Int) * 86400 + (3600 * ((f.getD 3 0 : Nat) : Int) + 60 * ((f.getD 4 0 : Nat) : Int) + ((f.getD 5 0 : Nat) : Int) - (if zo = 45 then -(3600 * ((f.getD 6 0 : Nat) : Int) + 60 * ((f.getD 7 0 : Nat) : Int)) else 3600 * ((f.getD 6 0 : Nat) : Int) + 60 * ((f.getD 7 0 : Nat) : Int)))
set_option maxRecDepth 100000 in
set_option maxHeartbeats 4000000 in
theorem seconds_any (sh : Nat) (f : List Nat) (na zo : Nat) (hf : f.length = 8) (hf2 : ∀ k, k < 8 → f.getD k 0 ≤ lim k) (hD : IsD (f.getD 0 0 : Nat) (f.getD 1 0 : Nat) (f.getD 2 0 : Nat)) (hzo : zo < 256) (w : World) (hT : Tabs w) :
    Calls Tryd.prog 31 #[tv sh f na zo] w fun e w' => e = .returned (.int .i64 (sec f zo)) ∧ Below w.heap.size w w' := by
  have hB : Hid (Blk (w.alloc (.cells (tx sh f na zo).toArray 43)) w.heap.size 43 (tx sh f na zo)) := Blk.new w 43 (tx sh f na zo)
  have hbel : Hid (Below w.heap.size w (w.alloc (.cells (tx sh f na zo).toArray 43))) := (Below.refl _ w).alloc (Nat.le_refl _) _
  have hTb : Hid (Tabs (w.alloc (.cells (tx sh f na zo).toArray 43))) := hT.go hbel.out
  have HY := Lib.hid (days_yes _ _ _ (w.alloc (.cells (tx sh f na zo).toArray 43)) hTb.out.2.1 hD)
  have hdb := dn_bound _ _ _ hD
  have b3 : f.getD 3 0 ≤ 23 := hf2 3 (by omega)
  have b4 : f.getD 4 0 ≤ 59 := hf2 4 (by omega)
  have b5 : f.getD 5 0 ≤ 59 := hf2 5 (by omega)
  have b6 : f.getD 6 0 ≤ 23 := hf2 6 (by omega)
  have b7 : f.getD 7 0 ≤ 59 := hf2 7 (by omega)
  have d1 : (w.alloc (.cells (tx sh f na zo).toArray 43)).cell? ⟨w.heap.size, 1, none⟩ = some (.int .i64 (f.getD 0 0 : Nat)) := hB.out.cell 1 _ (tx_f sh f na zo 0 hf (by omega))
  have d2 : (w.alloc (.cells (tx sh f na zo).toArray 43)).cell? ⟨w.heap.size, 2, none⟩ = some (.int .i64 (f.getD 1 0 : Nat)) := hB.out.cell 2 _ (tx_f sh f na zo 1 hf (by omega))
  have d3 : (w.alloc (.cells (tx sh f na zo).toArray 43)).cell? ⟨w.heap.size, 3, none⟩ = some (.int .i64 (f.getD 2 0 : Nat)) := hB.out.cell 3 _ (tx_f sh f na zo 2 hf (by omega))
  have d4 : (w.alloc (.cells (tx sh f na zo).toArray 43)).cell? ⟨w.heap.size, 4, none⟩ = some (.int .i64 (f.getD 3 0 : Nat)) := hB.out.cell 4 _ (tx_f sh f na zo 3 hf (by omega))
  have d5 : (w.alloc (.cells (tx sh f na zo).toArray 43)).cell? ⟨w.heap.size, 5, none⟩ = some (.int .i64 (f.getD 4 0 : Nat)) := hB.out.cell 5 _ (tx_f sh f na zo 4 hf (by omega))
  have d6 : (w.alloc (.cells (tx sh f na zo).toArray 43)).cell? ⟨w.heap.size, 6, none⟩ = some (.int .i64 (f.getD 5 0 : Nat)) := hB.out.cell 6 _ (tx_f sh f na zo 5 hf (by omega))
  have d7 : (w.alloc (.cells (tx sh f na zo).toArray 43)).cell? ⟨w.heap.size, 7, none⟩ = some (.int .i64 (f.getD 6 0 : Nat)) := hB.out.cell 7 _ (tx_f sh f na zo 6 hf (by omega))
  have d8 : (w.alloc (.cells (tx sh f na zo).toArray 43)).cell? ⟨w.heap.size, 8, none⟩ = some (.int .i64 (f.getD 7 0 : Nat)) := hB.out.cell 8 _ (tx_f sh f na zo 7 hf (by omega))
  have d10 : (w.alloc (.cells (tx sh f na zo).toArray 43)).cell? ⟨w.heap.size, 10, none⟩ = some (.int .u8 zo) := hB.out.cell 10 _ (tx_10 sh f na zo hf)
  unfold sec tv
  clear hTb hD hT hf hf2 hB
  generalize dn (f.getD 0 0 : Nat) (f.getD 1 0 : Nat) (f.getD 2 0 : Nat) = dd at *
  generalize f.getD 0 0 = a0 at *
  generalize f.getD 1 0 = a1 at *
  generalize f.getD 2 0 = a2 at *
  generalize f.getD 3 0 = a3 at *
  generalize f.getD 4 0 = a4 at *
  generalize f.getD 5 0 = a5 at *
  generalize f.getD 6 0 = a6 at *
  generalize f.getD 7 0 = a7 at *
  obtain ⟨hdl, hdu⟩ := hdb
  by_cases hz : zo = 45
  · subst hz
    rw [if_pos rfl]
    go_enter Tryd.func31, Tryd.ntmps31
    go_wp2_with fail
    refine HY.out.mono ?_
    rintro e w3 ⟨rfl, n, rfl⟩
    go_wp2
    go_ret
    exact ⟨congrArg (fun x => Ending.returned (.int .i64 x)) (by omega), Below.drewN hbel.out n⟩
  · rw [if_neg hz]
    have hzz : ((zo : Int) == 45) = false := by rw [beq_eq_false_iff_ne]; omega
    clear hz
    go_enter Tryd.func31, Tryd.ntmps31
    go_wp2_with fail
    refine HY.out.mono ?_
    rintro e w3 ⟨rfl, n, rfl⟩
    go_wp2
    go_ret
    exact ⟨congrArg (fun x => Ending.returned (.int .i64 x)) (by omega), Below.drewN hbel.out n⟩
/-- the fraction of a canonical text -/
def frL (na : Nat) : List UInt8 := if na = 0 then [] else 46 :: Lib.trimRightB (padL na 9) 48
theorem dec_len (k n : Nat) (hk : 0 < k) (h : n < 10 ^ k) : (Lib.decDigits n).length ≤ k := by
  induction k generalizing n with
  | zero => omega
  | succ k ih =>
    rw [Lib.decDigits]
    by_cases h10 : n < 10
    · rw [dif_pos h10]; simp
    · rw [dif_neg h10, List.length_append]
      have h2 : n / 10 < 10 ^ k := by rw [Nat.pow_succ] at h; omega
      have hk0 : 0 < k := by
        cases k with
        | zero => simp at h; omega
        | succ k => omega
      have := ih (n / 10) hk0 h2
      simp; omega
theorem dec_len9 (n : Nat) (h : n ≤ 2000000000) : (Lib.decDigits n).length ≤ 20 := by
  have := dec_len 10 n (by omega) (by omega)
  omega
set_option maxHeartbeats 1000000 in
theorem fraction_any (sh : Nat) (f : List Nat) (na zo : Nat) (hf : f.length = 8) (hna : na ≤ 999999999) (w : World) (hT : Tabs w) :
    Calls Tryd.prog 35 #[tv sh f na zo] w fun e w' => e = .returned (.string ⟨(frL na).toArray⟩) ∧ Below w.heap.size w w' := by
  have hB : Hid (Blk (w.alloc (.cells (tx sh f na zo).toArray 43)) w.heap.size 43 (tx sh f na zo)) := Blk.new w 43 (tx sh f na zo)
  have hbel : Hid (Below w.heap.size w (w.alloc (.cells (tx sh f na zo).toArray 43))) := (Below.refl _ w).alloc (Nat.le_refl _) _
  have hTb : Hid (Tabs (w.alloc (.cells (tx sh f na zo).toArray 43))) := hT.go hbel.out
  have d9 : (w.alloc (.cells (tx sh f na zo).toArray 43)).cell? ⟨w.heap.size, 9, none⟩ = some (.int .i64 na) := hB.out.cell 9 _ (tx_9 sh f na zo hf)
  have HP := Lib.hid (padded_any na 9 (by omega) (by omega) _ hTb.out (dec_len9 na (by omega)))
  have HTr := Lib.hid (fun W => Tryd.strings_TrimRight_one ⟨(padL na 9).toArray⟩ 48 (by decide) W (by
    have : (⟨(padL na 9).toArray⟩ : ByteArray).size = (padL na 9).length := by simp [ByteArray.size]
    rw [this]
    have h2 := dec_len9 na (by omega)
    unfold padL
    rw [List.length_append, List.length_replicate]; omega))
  unfold tv
  by_cases h0 : na = 0
  · have e0 : frL na = [] := if_pos h0
    rw [e0]
    subst h0
    clear hTb hT hf hB HP HTr e0
    go_enter Tryd.func35, Tryd.ntmps35
    go_wp2
    go_ret
    exact ⟨rfl, hbel.out⟩
  · have e0 : frL na = 46 :: Lib.trimRightB (padL na 9) 48 := if_neg h0
    rw [e0]
    have hne : ((na : Int) == 0) = false := by rw [beq_eq_false_iff_ne]; omega
    have e1 : (⟨(46 :: Lib.trimRightB (padL na 9) 48).toArray⟩ : ByteArray) = ⟨#[46]⟩ ++ ⟨(Lib.trimRightB (padL na 9) 48).toArray⟩ := mk_app [46] _
    rw [e1]
    have HTr2 : Hid (∀ W, Calls Tryd.prog 50 #[.string ⟨(padL na 9).toArray⟩, .string ⟨#[48]⟩] W fun e w' => e = .returned (.string ⟨(Lib.trimRightB (padL na 9) 48).toArray⟩) ∧ W = w') := fun W => (HTr.out W).mono fun e w' ⟨h1, h2⟩ => ⟨h1, h2.symm⟩
    have hsz : (⟨(Lib.trimRightB (padL na 9) 48).toArray⟩ : ByteArray).size ≤ 40 := by
      have h9 : (⟨(Lib.trimRightB (padL na 9) 48).toArray⟩ : ByteArray).size = (Lib.trimRightB (padL na 9) 48).length := by simp [ByteArray.size]
      rw [h9]
      have h2 := dec_len9 na (by omega)
      have h3 : (Lib.trimRightB (padL na 9) 48).length ≤ (padL na 9).length := by
        unfold Lib.trimRightB
        rw [List.length_reverse]
        have := (List.dropWhile_sublist (fun x : UInt8 => x == 48) (l := (padL na 9).reverse)).length_le
        rw [List.length_reverse] at this
        exact this
      have h4 : (padL na 9).length ≤ 40 := by
        unfold padL
        rw [List.length_append, List.length_replicate]; omega
      omega
    generalize (⟨(Lib.trimRightB (padL na 9) 48).toArray⟩ : ByteArray) = tr at *
    generalize (⟨(padL na 9).toArray⟩ : ByteArray) = pd at *
    clear hTb hT hf hB e0 h0 HTr e1
    go_enter Tryd.func35, Tryd.ntmps35
    go_wp2_with fail
    refine HP.out.mono ?_
    rintro e w3 ⟨rfl, hb3⟩
    have hb := bt hbel hb3
    clear hb3
    go_wp2_with fail
    refine (HTr2.out _).mono ?_
    rintro e w4 ⟨rfl, rfl⟩
    go_wp2
    go_ret
    exact ⟨rfl, hb.out⟩
end Go.Proofs.YtckeefjmamggmaaDoor
