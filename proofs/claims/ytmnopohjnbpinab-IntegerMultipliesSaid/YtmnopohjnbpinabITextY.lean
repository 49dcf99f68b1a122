/-
  Helper: the walks of integer.Text and integer.Neg where the text is a number.
-/
import Derived.Test.YtmnopohjnbpinabICmp
namespace Go.Proofs.Ytmnopohjnbpinab
open Go.RowKit
set_option linter.unusedVariables false

theorem len_base (b n k : Nat) (hb : 2 ≤ b) (h : (E 10 n).length ≤ k) : (E b n).length ≤ 4 * k := by
  have h1 := (E_len_le 10 n k (by omega)).1 h
  refine (E_len_le b n (4 * k) hb).2 (Nat.lt_of_lt_of_le h1 ?_)
  rw [Nat.pow_mul]
  refine Nat.pow_le_pow_left ?_ k
  have h16 : 2 ^ 4 ≤ b ^ 4 := Nat.pow_le_pow_left hb 4
  omega
def TxtE (l : List UInt8) (w : World) (e : Ending) (w' : World) : Prop := e = .returned (.tuple #[.string ⟨l.toArray⟩, .int .i64 0]) ∧ Below w.heap.size w w'

set_option maxRecDepth 100000 in
set_option maxHeartbeats 2000000 in
theorem Text_yes (z : Int) (hz : Sh z) (b : Nat) (hB : isB (b : Int) = true) (hb : 2 ≤ b) (hb2 : b ≤ 16) (s : ByteArray) (hs : s.data.toList = T z) (w : World) : Calls Try.prog 15 #[.string s, .int .i64 (b : Int)] w (TxtE (Tb b z) w) := by
  have HA := Lib.hid (fun W => read_yes z hz s hs W)
  have HI := Lib.hid (fun W => isBase_any (b : Int) W)
  have hi := Lib.hid hB
  have HT := Lib.hid (fun a cap W hr => numtext_any z b hb hb2 a cap W hr (sh100 hz) (by have := len_base b z.natAbs 400 hb hz; omega))
  have HF : Hid (∀ w', Below w.heap.size w w' → TxtE (Tb b z) w (.returned (.tuple #[.string ⟨(Tb b z).toArray⟩, .int .i64 0])) w') := fun w' h => ⟨rfl, h⟩
  clear hs hz hB
  generalize TxtE (Tb b z) w = Po at *
  generalize Tb b z = t at *
  go_enter Try.func15, Try.ntmps15
  go_wp2_with fail
  refine (HI.out _).mono ?_
  rintro e w0 ⟨rfl, hw⟩
  obtain rfl := hw.symm
  rw [hi.out]
  go_wp2_with fail
  refine (HA.out _).mono ?_
  rintro e w1 ⟨ax, cx, rfl, hrx, hcx, h1⟩
  have ht := Lib.hid (fun W h => HT.out ax cx W (hrx.go h))
  clear hrx hcx HT
  generalize neg z = bz at *
  generalize (E 10 z.natAbs).length = lx at *
  have hb2 : Below w1.heap.size w1 (w1.alloc (.cells #[.bool bz, .slice ax lx cx] 70)) := (Below.refl _ _).alloc (Nat.le_refl _) _
  have hw2 := Lib.hid (h1.trans (hb2.mono h1.size))
  go_wp2_with fail
  refine (ht.out _ hb2).mono ?_
  rintro e w3 ⟨rfl, h4⟩
  have hfin := Lib.hid (HF.out w3 (hw2.out.trans (h4.mono hw2.out.size)))
  clear h4 hb2 h1
  generalize (⟨t.toArray⟩ : ByteArray) = tx at *
  go_wp2
  exact hfin.out

set_option maxRecDepth 100000 in
set_option maxHeartbeats 2000000 in
theorem Neg_yes (z : Int) (hz : Sh z) (s : ByteArray) (hs : s.data.toList = T z) (w : World) : Calls Try.prog 22 #[.string s] w (TxtP (T (-z)) w) := by
  have HA := Lib.hid (fun W => read_yes z hz s hs W)
  have hz2 : Sh (-z) := by unfold Sh at *; rw [Int.natAbs_neg]; exact hz
  have HN := Lib.hid (fun a cap W hr hl => negated_any z a cap W (by have := sh100 hz; omega) hr hl)
  have HT := Lib.hid (fun a cap W hr => numtext_any (-z) 10 (by omega) (by omega) a cap W hr (sh100 hz2) (by have := sh100 hz2; omega))
  have HF : Hid (∀ w', Below w.heap.size w w' → TxtP (T (-z)) w (.returned (.string ⟨(Tb 10 (-z)).toArray⟩)) w') := fun w' h => ⟨rfl, h⟩
  clear hs hz hz2
  generalize TxtP (T (-z)) w = Po at *
  generalize hzn : -z = zn at *
  clear hzn
  generalize Tb 10 zn = t at *
  go_enter Try.func22, Try.ntmps22
  go_wp2_with fail
  refine (HA.out _).mono ?_
  rintro e w1 ⟨ax, cx, rfl, hrx, hcx, h1⟩
  have ht := Lib.hid (fun W h => HN.out ax cx W (hrx.go h) hcx)
  clear hrx hcx HN
  generalize neg z = bz at *
  generalize (E 10 z.natAbs).length = lx at *
  have hb2 : Below w1.heap.size w1 (w1.alloc (.cells #[.bool bz, .slice ax lx cx] 70)) := (Below.refl _ _).alloc (Nat.le_refl _) _
  have hw2 := Lib.hid (h1.trans (hb2.mono h1.size))
  go_wp2_with fail
  refine (ht.out _ hb2).mono ?_
  rintro e w3 ⟨ay, cy, rfl, hry, hcy, h4⟩
  have hw3 := Lib.hid (hw2.out.trans (h4.mono hw2.out.size))
  have ht2 := Lib.hid (HT.out ay cy w3 hry)
  clear hry hcy HT h4 hb2 h1
  generalize neg zn = bn at *
  generalize (E 10 zn.natAbs).length = ln at *
  go_wp2_with fail
  refine ht2.out.mono ?_
  rintro e w4 ⟨rfl, h4⟩
  have hfin := Lib.hid (HF.out w4 (hw3.out.trans (h4.mono hw3.out.size)))
  clear h4
  generalize (⟨t.toArray⟩ : ByteArray) = tx at *
  go_wp2
  exact hfin.out
end Go.Proofs.Ytmnopohjnbpinab
