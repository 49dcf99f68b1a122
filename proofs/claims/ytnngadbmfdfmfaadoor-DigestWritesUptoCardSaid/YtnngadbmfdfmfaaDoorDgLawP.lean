/-
  Helper: the walk of DigestParts.
-/
import Derived.Test.YtnngadbmfdfmfaaDoorDgLawA
import Derived.Deep.Cut
import Derived.Lib.Join
namespace Go.Proofs.YtnngadbmfdfmfaaDoor
open Go.RowKit
set_option linter.unusedVariables false
set_option linter.unusedSimpArgs false

theorem join_cat (z : List ByteArray) : Lib.join (z.map (·.data.toList)) [] = catS z := by
  cases z with
  | nil => rfl
  | cons x r =>
    rw [List.map_cons, Lib.join_cons]
    unfold Lib.joinTail catS
    simp [List.flatMap]
    rfl
/-- strings.Join at a world behind another -/
theorem join_at (z : List ByteArray) (a : Option Addr) (n cap : Nat) (hn : z.length = n) (hc : n ≤ cap) (w0 : World) (hr : Rs w0 a z) (hl : (catS z).length ≤ 1048576) (hn2 : n ≤ 1048576) (w : World) (hb : Below w0.heap.size w0 w) :
    Calls Tryd.prog 12 #[.slice a n cap, .string ⟨#[]⟩] w fun e w' => e = .returned (.string (mkS (catS z))) ∧ Below w0.heap.size w0 w' := by
  subst hn
  rcases hr.go hb with rfl | ⟨b, off, rfl, hlt, hcell⟩
  · exact (Tryd.strings_Join_none a cap ⟨#[]⟩ w).mono fun e w' h => ⟨h.1, by rw [h.2]; exact hb⟩
  · have h := Tryd.strings_Join b off cap z ⟨#[]⟩ w (fun j x hj => by
      have hlt := (List.getElem?_eq_some_iff.1 hj).1
      have e := hcell j hlt
      rw [List.getD_eq_getElem?_getD, hj] at e
      exact e) hlt (by omega) hc (by rw [show (⟨#[]⟩ : ByteArray).data.toList = [] from rfl, join_cat]; omega)
    rw [show (⟨#[]⟩ : ByteArray).data.toList = [] from rfl, join_cat] at h
    exact h.mono fun e w' h => ⟨h.1, hb.trans (h.2.mono hb.size)⟩
/-- the sum of all the strings of a slice, at a world behind another -/
theorem sums_at (z : List ByteArray) (a : Option Addr) (n cap : Nat) (hn : z.length = n) (hn2 : n ≤ 1000000) (w0 : World) (hr : Rs w0 a z) (hT : Tabs w0) (hl : (catS z).length ≤ 10000) (w : World) (hb : Below w0.heap.size w0 w) :
    Calls Tryd.prog 10 #[.slice a n cap] w fun e w' => e = .returned (.string (mkS (sumF (catS z)))) ∧ Below w0.heap.size w0 w' :=
  (sum_any z a n cap hn hn2 w (hr.go hb) (hT.go hb) hl).mono fun e w' h => ⟨h.1, hb.trans (h.2.mono hb.size)⟩
set_option maxRecDepth 100000 in
set_option maxHeartbeats 8000000 in
theorem walkDigestParts (w : World) (hT : Tabs w) (a : Option Addr) (n cap : Nat) (z : List ByteArray) (hn : z.length = n) (hc : n ≤ cap) (hr : Rs w a z) (hl : (catS z).length ≤ 1048576) (hn2 : n ≤ 1048576) :
    Calls Tryd.prog 5 #[.slice a n cap] w fun e w' => e = .returned (.bool true) ∧ Below w.heap.size w w' := by
  have HA := Lib.hid (fun W (hW : Below w.heap.size w W) => awake_at W w hT hW)
  have HJ := Lib.hid (join_at z a n cap hn hc w hr hl hn2)
  by_cases hs : n ≤ 20
  · have hnI : ¬ (20 : Int) < (n : Int) := by omega
    have hz := zero73
    have hTh := Lib.hid hT
    have hrh := Lib.hid hr
    by_cases hL : (catS z).length ≤ 2000
    · have hsz : (mkS (catS z)).size = (catS z).length := by unfold mkS; rfl
      have hLI : ¬ (2000 : Int) < ((mkS (catS z)).size : Int) := by omega
      have hNew := Lib.hid (fun W => new_any W)
      go_enter Tryd.func5, Tryd.ntmps5
      go_wp2_with fail
      refine (HJ.out _ (Below.refl _ _)).mono ?_
      rintro e w0 ⟨rfl, hb0⟩
      have hb0h := Lib.hid hb0
      clear hb0 hT hr HJ
      go_wp2_with fail
      refine (hNew.out _).mono ?_
      rintro e w1 ⟨rfl, hb1⟩
      obtain ⟨g, hg⟩ : ∃ g, w1.heap.size = g := ⟨_, rfl⟩
      have hb1h : Hid (Below w.heap.size w w1) := hb0h.out.trans (hb1.mono hb0h.out.size)
      have hZ : Hid (Blk (w1.alloc (.cells (hv zw zb 0).toArray 35)) g 35 (hv zw zb 0)) := by rw [← hg]; exact Blk.new w1 _ _
      have hZ2 : Hid (Blk ((w1.alloc (.cells (hv zw zb 0).toArray 35)).setRow g (HV []).toArray) g 35 (HV (catS (z.take 0)))) := hZ.out.row (HV [])
      have hgw : w.heap.size ≤ g := by rw [← hg]; exact hb1h.out.size
      have hbe : Hid (Below w.heap.size w ((w1.alloc (.cells (hv zw zb 0).toArray 35)).setRow g (HV []).toArray)) := below_row (hb1h.out.alloc (by omega) _) hgw _
      have i1 : Hid ((Tryd.prog.info? 35).map (·.size) = some (HV []).toArray.size) := i73 _ _ _
      have o1 : Hid ((HV []).toArray.all (·.oneCell') = true) := arr_all (hv_one _ _ _)
      have z1 : Hid ((hv zw zb 0).toArray.size = (HV []).toArray.size) := by show _ = _; unfold HV; simp [hv_len]
      clear hb1 hb1h hNew
      go_wp2_with (refine wpList_store_row rfl 35 (.tmp 4) (.tmp 17) rfl g _ rfl rfl 35 _ hZ.out i1.out z1.out o1.out ?_)
      generalize (w1.alloc (.cells (hv zw zb 0).toArray 35)).setRow g (HV []).toArray = wb at *
      clear hz hZ i1 o1 z1 hg
      go_loopw [6, 20] (fun sv i wr => ∃ k : Nat, k ≤ n ∧ i = .int .i64 k ∧ Hid (Blk wr g 35 (HV (catS (z.take k)))) ∧ Hid (Below w.heap.size w wr)) (fun _ i _ => n - (intOf i).toNat)
      case atStart => exact ⟨0, Nat.zero_le _, rfl, hZ2, hbe⟩
      case round =>
        obtain ⟨k, hk, rfl, hB, hbel⟩ := hrel
        by_cases hlt : k < n
        · obtain ⟨b, off, rfl, hcc⟩ := (hrh.out.go hbel.out).at k (by omega)
          have hkI : (k : Int) < (n : Int) := by omega
          have hcs := catS_snoc z k (by omega)
          have hle := catS_le z (k + 1)
          have hTr := hTh.out.go hbel.out
          generalize z.getD k ⟨#[]⟩ = s at *
          have hwr := Lib.hid (write_any (catS (z.take k)) s wr hTr (by rw [hcs, List.length_append, ← Lib.size_eq] at hle; omega))
          rw [← hcs] at hwr
          have i1 : Hid ((Tryd.prog.info? 35).map (·.size) = some (HV (catS (z.take k))).toArray.size) := i73 _ _ _
          have i2 : Hid ((Tryd.prog.info? 35).map (·.size) = some (HV (catS (z.take (k + 1)))).toArray.size) := i73 _ _ _
          have o2 : Hid ((HV (catS (z.take (k + 1)))).toArray.all (·.oneCell') = true) := arr_all (hv_one _ _ _)
          have z2 : Hid ((HV (catS (z.take k))).toArray.size = (HV (catS (z.take (k + 1)))).toArray.size) := by show _ = _; unfold HV; simp [hv_len]
          have hglt : Hid (g < wr.heap.size) := hB.out.lt
          clear hcs hle hTr hlt HA hrh
          generalize hL2 : catS (z.take (k + 1)) = L2 at *
          have hL2h := Lib.hid hL2
          clear hL2
          generalize catS (z.take k) = L1 at *
          go_wp2_with (refine wpList_load_row rfl 35 (.tmp 4) rfl g rfl 35 _ _ _ hB.out Tryd.underlying35 rfl i1.out ?_)
          refine hwr.out.mono ?_
          rintro e w2 ⟨rfl, hb2⟩
          have hB2 : Hid (Blk w2 g 35 (HV L1)) := hB.out.go hb2 hglt.out
          have hB3 : Hid (Blk (w2.setRow g (HV L2).toArray) g 35 (HV L2)) := hB2.out.row (HV L2)
          have hbe3 : Hid (Below w.heap.size w (w2.setRow g (HV L2).toArray)) := below_row (hbel.out.trans (hb2.mono hbel.out.size)) hgw _
          clear hwr hb2
          go_wp2_with (refine wpList_store_row rfl 35 (.tmp 4) (.tmp 26) rfl g _ rfl rfl 35 _ hB2.out i2.out z2.out o2.out ?_)
          go_roundw
          case rel => exact ⟨k + 1, by omega, by go_num, by rw [hL2h.out]; exact hB3, hbe3⟩
          case measure => simp [intOf]; omega
        · obtain rfl : k = n := by omega
          have hall : catS (z.take k) = catS z := by rw [List.take_of_length_le (by omega)]
          rw [hall] at hB
          have hTr : Tabs wr := hTh.out.go hbel.out
          have i1 : Hid ((Tryd.prog.info? 35).map (·.size) = some (HV (catS z)).toArray.size) := i73 _ _ _
          have HX := Lib.hid (fun W (hW : Below wr.heap.size wr W) => hB.out.go hW hB.out.lt)
          have HA2 := Lib.hid (fun W (hW : Below wr.heap.size wr W) => awake_at W wr hTr hW)
          have HF := Lib.hid (fun W (hW : Below wr.heap.size wr W) => sums_at z a k cap hn (by omega) wr (hrh.out.go hbel.out) hTr (by omega) W hW)
          have HE : Hid (∀ W, Below wr.heap.size wr W → Calls Tryd.prog 10 #[.slice (some ⟨W.heap.size, 0, none⟩) 1 1] (W.alloc (.cells #[.string (mkS (catS z))] 9)) fun e w' => e = .returned (.string (mkS (sumF (catS z)))) ∧ Below wr.heap.size wr w') := fun W hW => sum_one (mkS (catS z)) W wr hTr hW (by omega)
          have HS := Lib.hid (fun W (hW : Below wr.heap.size wr W) => sumH_at (catS z) W wr hTr hW (by omega))
          have p0 := Lib.hid (Below.refl wr.heap.size wr)
          have hP : Hid (∀ W, Below wr.heap.size wr W → Below w.heap.size w W) := fun W hW => hbel.out.trans (hW.mono hbel.out.size)
          clear hall hrh HA hTr hTh hLI hsz hn hl hL hlt hB
          generalize HV (catS z) = cs at *
          generalize mkS (sumF (catS z)) = r at *
          generalize mkS (catS z) = s at *
          go_wp2_with fail
          refine (HA2.out _ p0.out).mono ?_
          rintro e y1 ⟨rfl, q1⟩
          have p1 := Lib.hid q1
          clear q1
          go_wp2_with fail
          refine (HF.out _ p1.out).mono ?_
          rintro e y2 ⟨rfl, q2⟩
          have p2 := Lib.hid q2
          clear q2
          go_wp2_with fail
          refine (HE.out _ p2.out).mono ?_
          rintro e y3 ⟨rfl, q3⟩
          have p3 := Lib.hid q3
          clear q3
          go_wp2_with (refine load_rowG (by rfl) 35 (.tmp 4) rfl g rfl 35 _ _ _ (HX.out _ p3.out) Tryd.underlying35 rfl i1.out ?_)
          refine (HS.out _ p3.out).mono ?_
          rintro e y4 ⟨rfl, q4⟩
          have p4 := Lib.hid q4
          clear q4
          go_wp2_with fail
          refine (HE.out _ p4.out).mono ?_
          rintro e y5 ⟨rfl, q5⟩
          have p5 := Lib.hid (hP.out _ q5)
          clear q5
          go_wp2
          go_ret
          exact ⟨rfl, p5.out⟩
    · have hsz : (mkS (catS z)).size = (catS z).length := by unfold mkS; rfl
      have hLI : (2000 : Int) < ((mkS (catS z)).size : Int) := by omega
      go_enter Tryd.func5, Tryd.ntmps5
      go_wp2_with fail
      refine (HJ.out _ (Below.refl _ _)).mono ?_
      rintro e w0 ⟨rfl, hb0⟩
      have hb0h := Lib.hid hb0
      clear hb0
      go_wp2_with fail
      refine (HA.out _ hb0h.out).mono ?_
      rintro e w1 ⟨rfl, hb1⟩
      have hb1h := Lib.hid hb1
      clear hb1
      go_wp2
      go_ret
      exact ⟨rfl, hb1h.out⟩
  · have hnI : (20 : Int) < (n : Int) := by omega
    clear hT
    go_enter Tryd.func5, Tryd.ntmps5
    go_wp2_with fail
    refine (HA.out _ (Below.refl _ _)).mono ?_
    rintro e w1 ⟨rfl, hb1⟩
    have hb1h := Lib.hid hb1
    clear hb1
    go_wp2
    go_ret
    exact ⟨rfl, hb1h.out⟩
end Go.Proofs.YtnngadbmfdfmfaaDoor
