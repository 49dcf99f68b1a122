/-
  Helper: the walk of DigestZero.
-/
import Derived.Test.YtnngadbmfdfmfaaDoorDgTrim
namespace Go.Proofs.YtnngadbmfdfmfaaDoor
open Go.RowKit
set_option linter.unusedVariables false
set_option linter.unusedSimpArgs false

theorem hx_mem (v : Nat) (h : v < 16) : hx v ∈ HX := by
  unfold hx
  rw [List.getD_eq_getElem?_getD, List.getElem?_eq_getElem (show v < HX.length from h)]
  exact List.getElem_mem _
theorem hexW_mem (x : BitVec 32) (j : Nat) (c : UInt8) (h : c ∈ hexW x j) : c ∈ HX := by
  unfold hexW at h
  obtain ⟨k, _, rfl⟩ := List.mem_map.1 h
  exact hx_mem _ (Nat.mod_lt _ (by omega))
theorem hexS_mem (F : Nat → BitVec 32) : ∀ n (c : UInt8), c ∈ hexS F n → c ∈ HX
  | 0, c, h => by simp [hexS] at h
  | n + 1, c, h => by
    simp only [hexS] at h
    rcases List.mem_append.1 h with h | h
    · exact hexS_mem F n c h
    · exact hexW_mem _ _ _ h
set_option maxRecDepth 100000 in
set_option maxHeartbeats 4000000 in
theorem walkDigestZero (w : World) (hT : Tabs w) (a : ByteArray) (h : a.size ≤ maxLen) : Calls Tryd.prog 8 #[.string a] w fun e w' => e = .returned (.bool true) ∧ Below w.heap.size w w' := by
  have HA := Lib.hid (fun W (hW : Below w.heap.size w W) => awake_at W w hT hW)
  unfold maxLen at h
  by_cases hl : a.size ≤ 1000
  · have hlI : ¬ (1000 : Int) < (a.size : Int) := by omega
    have hz : ∀ W : World, (zeroValue 35).run Tryd.prog W = .ok (.agg (HV []).toArray) W := fun W => by rw [HV_nil]; exact zero73 W
    have la : a.data.toList.length ≤ 10000 := by rw [← Lib.size_eq]; omega
    obtain ⟨wb, hwb⟩ : ∃ wb, w.alloc (.cells (HV []).toArray 35) = wb := ⟨_, rfl⟩
    have hb0 : Hid (Below w.heap.size w wb) := by rw [← hwb]; exact (Below.refl _ w).alloc (Nat.le_refl _) _
    have hB0 : Hid (Blk wb w.heap.size 35 (HV [])) := by rw [← hwb]; exact Blk.new w _ _
    have hTb : Tabs wb := hT.go hb0.out
    have HW : Hid (∀ W, Below wb.heap.size wb W → Calls Tryd.prog 14 #[.agg (HV []).toArray, .string a] W fun e w' => e = .returned (.agg (HV a.data.toList).toArray) ∧ Below wb.heap.size wb w') := fun W hW => (write_any [] a W (hTb.go hW) (by simp; omega)).mono fun e w' h => ⟨h.1, hW.trans (h.2.mono hW.size)⟩
    have HS := Lib.hid (fun W (hW : Below wb.heap.size wb W) => sumH_at a.data.toList W wb hTb hW la)
    have HF := Lib.hid (fun W (hW : Below wb.heap.size wb W) => sum_one a W wb hTb hW (by omega))
    have HE := Lib.hid (fun W (hW : Below wb.heap.size wb W) => sumH_at [] W wb hTb hW (by simp))
    have HA2 := Lib.hid (fun W (hW : Below wb.heap.size wb W) => awake_at W wb hTb hW)
    have HE2 : Hid (∀ W, Below wb.heap.size wb W → Calls Tryd.prog 10 #[.slice (some ⟨W.heap.size, 0, none⟩) 1 1] (W.alloc (.cells #[.string ⟨#[]⟩] 9)) fun e w' => e = .returned (.string (mkS (sumF []))) ∧ Below wb.heap.size wb w') := fun W hW => sum_one ⟨#[]⟩ W wb hTb hW (by decide)
    have hr : (mkS (sumF a.data.toList)).data.toList = sumF a.data.toList := rfl
    have hrs : (mkS (sumF a.data.toList)).size = 64 := by rw [Lib.size_eq, hr, sumF_len]
    have HTr : Hid (∀ W, Below wb.heap.size wb W → Calls Tryd.prog 16 #[.string (mkS (sumF a.data.toList)), .string ⟨#[48, 49, 50, 51, 52, 53, 54, 55, 56, 57, 97, 98, 99, 100, 101, 102]⟩] W fun e w' => e = .returned (.string ⟨#[]⟩) ∧ Below wb.heap.size wb w') := fun W hW => (trim_any (mkS (sumF a.data.toList)) W (by omega) (by omega) (fun x hx => hexS_mem _ _ x hx)).mono fun e w' h => ⟨h.1, hW.trans (h.2.mono hW.size)⟩
    have i0 : Hid ((Tryd.prog.info? 35).map (·.size) = some (HV []).toArray.size) := i73 _ _ _
    have HX := Lib.hid (fun W (hW : Below wb.heap.size wb W) => hB0.out.go hW hB0.out.lt)
    have p0 := Lib.hid (Below.refl wb.heap.size wb)
    clear hT la hr h hTb HA
    generalize mkS (sumF a.data.toList) = r at *
    generalize mkS (sumF []) = r0 at *
    go_enter Tryd.func8, Tryd.ntmps8
    go_upto_region 4 with fail
    clear hwb hz
    go_wp2_with (refine load_rowG (by rfl) 35 (.tmp 3) rfl w.heap.size rfl 35 _ _ _ (HX.out _ p0.out) Tryd.underlying35 rfl i0.out ?_)
    refine (HW.out _ p0.out).mono ?_
    rintro e y1 ⟨rfl, q1⟩
    have p1 := Lib.hid q1
    clear q1
    go_wp2_with fail
    refine (HS.out _ p1.out).mono ?_
    rintro e y2 ⟨rfl, q2⟩
    have p2 := Lib.hid q2
    clear q2
    go_wp2_with fail
    refine (HA2.out _ p2.out).mono ?_
    rintro e y3 ⟨rfl, q3⟩
    have p3 := Lib.hid q3
    clear q3
    go_wp2_with fail
    refine (HF.out _ p3.out).mono ?_
    rintro e y4 ⟨rfl, q4⟩
    have p4 := Lib.hid q4
    clear q4
    go_wp2_with fail
    refine (HTr.out _ p4.out).mono ?_
    rintro e y5 ⟨rfl, q5⟩
    have p5 := Lib.hid q5
    clear q5
    go_wp2_with (refine load_rowG (by rfl) 35 (.tmp 3) rfl w.heap.size rfl 35 _ _ _ (HX.out _ p5.out) Tryd.underlying35 rfl i0.out ?_)
    refine (HE.out _ p5.out).mono ?_
    rintro e y6 ⟨rfl, q6⟩
    have p6 := Lib.hid q6
    clear q6
    go_wp2_with fail
    refine (HE2.out _ p6.out).mono ?_
    rintro e y7 ⟨rfl, q7⟩
    have p7 := Lib.hid q7
    clear q7
    go_wp2
    go_ret
    exact ⟨rfl, hb0.out.trans (p7.out.mono hb0.out.size)⟩
  · have hlI : (1000 : Int) < (a.size : Int) := by omega
    clear hT
    go_enter Tryd.func8, Tryd.ntmps8
    go_wp2_with fail
    refine (HA.out _ (Below.refl _ _)).mono ?_
    rintro e w1 ⟨rfl, hb1⟩
    have hb1h := Lib.hid hb1
    clear hb1
    go_wp2
    go_ret
    exact ⟨rfl, hb1h.out⟩
end Go.Proofs.YtnngadbmfdfmfaaDoor
