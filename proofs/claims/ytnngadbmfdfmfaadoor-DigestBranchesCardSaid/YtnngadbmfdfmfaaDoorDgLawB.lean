/-
  Helper: the walk of DigestBranches.
-/
import Derived.Test.YtnngadbmfdfmfaaDoorDgLawA
import Derived.Deep.RegionHeld3
import Derived.Deep.Cut
namespace Go.Proofs.YtnngadbmfdfmfaaDoor
open Go.RowKit
set_option linter.unusedVariables false
set_option linter.unusedSimpArgs false

set_option maxRecDepth 100000 in
set_option maxHeartbeats 8000000 in
theorem walkDigestBranches (w : World) (hT : Tabs w) (a : ByteArray) (h1 : a.size ≤ 140737488351232) (b : ByteArray) (h2 : b.size ≤ 140737488351232) (c : ByteArray) (h3 : c.size ≤ 140737488351232) : Calls Tryd.prog 7 #[.string a, .string b, .string c] w fun e w' => e = .returned (.bool true) ∧ Below w.heap.size w w' := by
  have HA := Lib.hid (fun W (hW : Below w.heap.size w W) => awake_any W (hT.go hW))
  by_cases hl : a.size + b.size + c.size ≤ 1000
  · have hlI : ¬ (1000 : Int) < (a.size : Int) + (b.size : Int) + (c.size : Int) := by omega
    have HN := Lib.hid (new_any w)
    have HWa := Lib.hid (fun W (hW : Below w.heap.size w W) => write_any [] a W (hT.go hW) (by simp; omega))
    have hz := zero73
    go_enter Tryd.func7, Tryd.ntmps7
    go_wp2_with fail
    refine HN.out.mono ?_
    rintro e w1 ⟨rfl, hb1⟩
    have hb1h := Lib.hid hb1
    clear hb1
    go_wp2_with fail
    refine (HWa.out _ hb1h.out).mono ?_
    rintro e w2 ⟨rfl, hb2⟩
    have hb2h : Hid (Below w.heap.size w w2) := hb1h.out.trans (hb2.mono hb1h.out.size)
    clear hb2
    obtain ⟨G, hG⟩ : ∃ G, w2.heap.size = G := ⟨_, rfl⟩
    have hGw : w.heap.size ≤ G := by have := hb2h.out.size; omega
    rw [show ([] : List UInt8) ++ a.data.toList = a.data.toList from rfl]
    have hA1 : Hid (Blk (w2.alloc (.cells (hv zw zb 0).toArray 35)) G 35 (hv zw zb 0)) := by rw [← hG]; exact Blk.new w2 _ _
    have hA2 : Hid (Blk ((w2.alloc (.cells (hv zw zb 0).toArray 35)).setRow G (HV a.data.toList).toArray) G 35 (HV a.data.toList)) := hA1.out.row _
    have hAb : Hid (Below w.heap.size w ((w2.alloc (.cells (hv zw zb 0).toArray 35)).setRow G (HV a.data.toList).toArray)) := below_row (hb2h.out.alloc (by omega) _) hGw _
    have i1 : Hid ((Tryd.prog.info? 35).map (·.size) = some (HV a.data.toList).toArray.size) := i73 _ _ _
    have o1 : Hid ((HV a.data.toList).toArray.all (·.oneCell') = true) := arr_all (hv_one _ _ _)
    have z1 : Hid ((hv zw zb 0).toArray.size = (HV a.data.toList).toArray.size) := by show _ = _; unfold HV; simp [hv_len]
    go_upto_region 4 with (refine wpList_store_row rfl 35 (.tmp 7) (.tmp 22) rfl G _ rfl rfl 35 _ hA1.out i1.out z1.out o1.out ?_)
    generalize (w2.alloc (.cells (hv zw zb 0).toArray 35)).setRow G (HV a.data.toList).toArray = wb at *
    clear hG hA1 i1 o1 z1 HN HWa
    have hsz : G + 1 ≤ wb.heap.size := hA2.out.lt
    have HWb : Hid (∀ W, Below (G + 1) wb W → Calls Tryd.prog 14 #[.agg (HV a.data.toList).toArray, .string b] W (HP (a.data.toList ++ b.data.toList) W)) := fun W hW => write_any a.data.toList b W (hT.go (hAb.out.trans (hW.mono (by omega)))) (by rw [← Lib.size_eq]; omega)
    have HWc : Hid (∀ W, Below (G + 1) wb W → Calls Tryd.prog 14 #[.agg (HV a.data.toList).toArray, .string c] W (HP (a.data.toList ++ c.data.toList) W)) := fun W hW => write_any a.data.toList c W (hT.go (hAb.out.trans (hW.mono (by omega)))) (by rw [← Lib.size_eq]; omega)
    have hrg : Hid (∀ W, Below (G + 1) wb W → W.rangeAt G 0 (HV a.data.toList)) := fun W h => (hA2.out.go h (Nat.lt_succ_self G)).range 0 (HV a.data.toList) (fun j v hj => by rw [Nat.zero_add]; exact hj)
    simp only [Act.put]
    go_cut [8, 9] (fun s8 s9 wx => ∃ g8 g9, s8 = .pointer (some ⟨g8, 0, none⟩) ∧ s9 = .pointer (some ⟨g9, 0, none⟩) ∧ Hid (Blk wx g8 35 (HV (a.data.toList ++ b.data.toList))) ∧ Hid (Blk wx g9 35 (HV (a.data.toList ++ c.data.toList))) ∧ Hid (Below (G + 1) wb wx))
    case first =>
      -- REGION
      refine wp_region_held_drew (S := fun W => Below (G + 1) wb W) (by kernel_rfl) (Below.refl _ _).drew (fun hS0 => ?_)
      try simp only [Act.put, List.setIfInBounds_toArray, List.set_cons_zero, List.set_cons_succ]
      refine' wpAnyH_take (i := 0) (oi := { dst := some 23, op := Op.load 35 (Operand.tmp 7), type := 35, pos := "law.go:76", after := #[], guard := none }) (v := .agg (HV a.data.toList).toArray) rfl (by kernel_rfl) (by kernel_rfl) (by kernel_rfl) (fun _ _ _ h => h) (yieldsIf_load_mid (by rfl) _ _ rfl G 0 rfl (HV a.data.toList) _ (fun W h => hrg.out W h) Tryd.underlying35 rfl (by rw [i73]; rfl)) hS0 ?_
      simp only [Act.put, List.setIfInBounds_toArray, List.set_cons_zero, List.set_cons_succ]
      refine wpAnyH_take (i := 1) (oi := { dst := some 24, op := Op.move (Operand.tmp 1), type := 9, pos := "law.go:76", after := #[], guard := none }) (v := .string b) rfl (by kernel_rfl) (by kernel_rfl) (by kernel_rfl) (fun _ _ _ h => h) (Or.inl ⟨by rfl, fun W hW => by go_simp⟩) hS0 ?_
      simp only [Act.put, List.setIfInBounds_toArray, List.set_cons_zero, List.set_cons_succ]
      refine' wpAnyH_take (i := 3) (oi := { dst := some 26, op := Op.load 35 (Operand.tmp 7), type := 35, pos := "law.go:76", after := #[], guard := none }) (v := .agg (HV a.data.toList).toArray) rfl (by kernel_rfl) (by kernel_rfl) (by kernel_rfl) (fun _ _ _ h => h) (yieldsIf_load_mid (by rfl) _ _ rfl G 0 rfl (HV a.data.toList) _ (fun W h => hrg.out W h) Tryd.underlying35 rfl (by rw [i73]; rfl)) hS0 ?_
      simp only [Act.put, List.setIfInBounds_toArray, List.set_cons_zero, List.set_cons_succ]
      refine wpAnyH_take (i := 4) (oi := { dst := some 27, op := Op.move (Operand.tmp 2), type := 9, pos := "law.go:76", after := #[], guard := none }) (v := .string c) rfl (by kernel_rfl) (by kernel_rfl) (by kernel_rfl) (fun _ _ _ h => h) (Or.inl ⟨by rfl, fun W hW => by go_simp⟩) hS0 ?_
      simp only [Act.put, List.setIfInBounds_toArray, List.set_cons_zero, List.set_cons_succ]
      refine wpAnyH_ready (rs := [2, 6, 7]) (by kernel_rfl) (by simp) ?_
      refine AllReadyH.cons (o := { dst := some 25, op := Op.call { callee := Callee.value (Operand.func 14), args := #[Operand.tmp 23, Operand.tmp 24], argTypes := #[35, 9] }, type := 35, pos := "law.go:76", after := #[{ on := 0, ground := Ground.data }, { on := 1, ground := Ground.data }], guard := none }) rfl (fun K hK => ?_) ?_
      · go_simp
        refine (HWb.out _ hS0).mono ?_
        rintro e x1 ⟨rfl, hq1⟩
        have hS1 : Below (G + 1) wb x1 := hS0.trans (hq1.mono (Nat.le_trans hsz hS0.size))
        go_wp2_with fail
        refine hK.out _ _ hS1 (fun _ => ?_)
        clear hK K
        try simp only [Act.put, List.setIfInBounds_toArray, List.set_cons_zero, List.set_cons_succ]
        refine wpAnyH_ready (rs := [5, 6, 7]) (by kernel_rfl) (by simp) ?_
        refine AllReadyH.cons (o := { dst := some 28, op := Op.call { callee := Callee.value (Operand.func 14), args := #[Operand.tmp 26, Operand.tmp 27], argTypes := #[35, 9] }, type := 35, pos := "law.go:76", after := #[{ on := 3, ground := Ground.data }, { on := 4, ground := Ground.data }, { on := 2, ground := Ground.chain }], guard := none }) rfl (fun K hK => ?_) ?_
        · go_simp
          refine (HWc.out _ hS1).mono ?_
          rintro e x2 ⟨rfl, hq2⟩
          have hS2 : Below (G + 1) wb x2 := hS1.trans (hq2.mono (Nat.le_trans hsz hS1.size))
          go_wp2_with fail
          refine hK.out _ _ hS2 (fun _ => ?_)
          clear hK K
          try simp only [Act.put, List.setIfInBounds_toArray, List.set_cons_zero, List.set_cons_succ]
          refine wpAnyH_ready (rs := [6, 7]) (by kernel_rfl) (by simp) ?_
          refine AllReadyH.cons (o := { dst := some 8, op := Op.alloc 35, type := 0, pos := "law.go:76", after := #[], guard := none }) rfl (fun K hK => ?_) ?_
          · go_simp
            have hS3 : Below (G + 1) wb (World.alloc x2 (.cells (hv zw zb 0).toArray 35)) := hS2.alloc (Nat.le_trans hsz hS2.size) _
            have hb3_6 := Blk.new x2 35 (hv zw zb 0)
            have hg6 : G + 1 ≤ x2.heap.size := Nat.le_trans hsz hS2.size
            refine hK.out _ _ hS3 (fun _ => ?_)
            clear hK K
            try simp only [Act.put, List.setIfInBounds_toArray, List.set_cons_zero, List.set_cons_succ]
            obtain ⟨x3, hx3⟩ : ∃ x, World.alloc x2 (.cells (hv zw zb 0).toArray 35) = x := ⟨_, rfl⟩
            rw [hx3] at hS3 hb3_6
            simp only [hx3]
            clear hx3
            refine wpAnyH_ready (rs := [7]) (by kernel_rfl) (by simp) ?_
            refine AllReadyH.cons (o := { dst := some 9, op := Op.alloc 35, type := 0, pos := "law.go:76", after := #[], guard := none }) rfl (fun K hK => ?_) ?_
            · go_simp
              have hS4 : Below (G + 1) wb (World.alloc x3 (.cells (hv zw zb 0).toArray 35)) := hS3.alloc (Nat.le_trans hsz hS3.size) _
              have hb4_7 := Blk.new x3 35 (hv zw zb 0)
              have hg7 : G + 1 ≤ x3.heap.size := Nat.le_trans hsz hS3.size
              have hne := Nat.ne_of_lt hb3_6.lt
              have hb4_6 := hb3_6.old (.cells (hv zw zb 0).toArray 35)
              refine hK.out _ _ hS4 (fun _ => ?_)
              clear hK K
              try simp only [Act.put, List.setIfInBounds_toArray, List.set_cons_zero, List.set_cons_succ]
              obtain ⟨x4, hx4⟩ : ∃ x, World.alloc x3 (.cells (hv zw zb 0).toArray 35) = x := ⟨_, rfl⟩
              rw [hx4] at hS4 hb4_6 hb4_7
              simp only [hx4]
              clear hx4
              refine wpAnyH_ready (rs := [8]) (by kernel_rfl) (by simp) ?_
              refine AllReadyH.cons (o := { dst := none, op := Op.store 35 (Operand.tmp 8) (Operand.tmp 25), type := 0, pos := "law.go:76", after := #[{ on := 6, ground := Ground.data }, { on := 2, ground := Ground.data }, { on := 5, ground := Ground.chain }, { on := 0, ground := Ground.phase }, { on := 1, ground := Ground.phase }, { on := 2, ground := Ground.phase }, { on := 3, ground := Ground.textOnly Departure.lateStores }, { on := 4, ground := Ground.textOnly Departure.lateStores }, { on := 5, ground := Ground.textOnly Departure.lateStoresUnsure }, { on := 6, ground := Ground.phase }, { on := 7, ground := Ground.phase }], guard := none }) rfl (fun K hK => ?_) ?_
              · rw [if_pos (by rfl)]
                refine wp_store_row 35 _ _ rfl _ _ rfl rfl 35 _ hb4_6 (i73 _ _ _) (by unfold HV; simp [hv_len]) (arr_all (hv_one _ _ _)) ?_
                have hS5 := below_row hS4 hg6 (HV (a.data.toList ++ b.data.toList)).toArray
                have hb5_6 := hb4_6.row (HV (a.data.toList ++ b.data.toList))
                have hb5_7 := hb4_7.rowFar (m := x2.heap.size) (by omega) (HV (a.data.toList ++ b.data.toList)).toArray
                refine hK.out _ _ hS5 (fun _ => ?_)
                clear hK K
                try simp only [Act.put, List.setIfInBounds_toArray, List.set_cons_zero, List.set_cons_succ]
                refine wpAnyH_ready (rs := [9]) (by kernel_rfl) (by simp) ?_
                refine AllReadyH.cons (o := { dst := none, op := Op.store 35 (Operand.tmp 9) (Operand.tmp 28), type := 0, pos := "law.go:76", after := #[{ on := 7, ground := Ground.data }, { on := 5, ground := Ground.data }, { on := 8, ground := Ground.chain }, { on := 0, ground := Ground.phase }, { on := 1, ground := Ground.phase }, { on := 2, ground := Ground.phase }, { on := 3, ground := Ground.phase }, { on := 4, ground := Ground.phase }, { on := 5, ground := Ground.phase }, { on := 6, ground := Ground.phase }, { on := 7, ground := Ground.phase }, { on := 8, ground := Ground.phase }], guard := none }) rfl (fun K hK => ?_) ?_
                · rw [if_pos (by rfl)]
                  refine wp_store_row 35 _ _ rfl _ _ rfl rfl 35 _ hb5_7 (i73 _ _ _) (by unfold HV; simp [hv_len]) (arr_all (hv_one _ _ _)) ?_
                  have hS6 := below_row hS5 hg7 (HV (a.data.toList ++ c.data.toList)).toArray
                  have hb6_7 := hb5_7.row (HV (a.data.toList ++ c.data.toList))
                  have hb6_6 := hb5_6.rowFar (m := x3.heap.size) (by omega) (HV (a.data.toList ++ c.data.toList)).toArray
                  refine hK.out _ _ hS6 (fun _ => ?_)
                  clear hK K
                  try simp only [Act.put, List.setIfInBounds_toArray, List.set_cons_zero, List.set_cons_succ]
                  refine wpAnyH_done (by kernel_rfl) ?_ _
                  first | go_meet | (go_wp2_with fail; go_meet) | (go_simp; go_meet)
                  exact ⟨_, _, rfl, rfl, Lib.hid hb6_6, Lib.hid hb6_7, Lib.hid hS6⟩
                exact AllReadyH.nil
              exact AllReadyH.nil
            exact AllReadyH.nil
          refine AllReadyH.cons (o := { dst := some 9, op := Op.alloc 35, type := 0, pos := "law.go:76", after := #[], guard := none }) rfl (fun K hK => ?_) ?_
          · go_simp
            have hS7 : Below (G + 1) wb (World.alloc x2 (.cells (hv zw zb 0).toArray 35)) := hS2.alloc (Nat.le_trans hsz hS2.size) _
            have hb7_7 := Blk.new x2 35 (hv zw zb 0)
            have hg7 : G + 1 ≤ x2.heap.size := Nat.le_trans hsz hS2.size
            refine hK.out _ _ hS7 (fun _ => ?_)
            clear hK K
            try simp only [Act.put, List.setIfInBounds_toArray, List.set_cons_zero, List.set_cons_succ]
            obtain ⟨x7, hx7⟩ : ∃ x, World.alloc x2 (.cells (hv zw zb 0).toArray 35) = x := ⟨_, rfl⟩
            rw [hx7] at hS7 hb7_7
            simp only [hx7]
            clear hx7
            refine wpAnyH_ready (rs := [6]) (by kernel_rfl) (by simp) ?_
            refine AllReadyH.cons (o := { dst := some 8, op := Op.alloc 35, type := 0, pos := "law.go:76", after := #[], guard := none }) rfl (fun K hK => ?_) ?_
            · go_simp
              have hS8 : Below (G + 1) wb (World.alloc x7 (.cells (hv zw zb 0).toArray 35)) := hS7.alloc (Nat.le_trans hsz hS7.size) _
              have hb8_6 := Blk.new x7 35 (hv zw zb 0)
              have hg6 : G + 1 ≤ x7.heap.size := Nat.le_trans hsz hS7.size
              have hne := Nat.ne_of_lt hb7_7.lt
              have hb8_7 := hb7_7.old (.cells (hv zw zb 0).toArray 35)
              refine hK.out _ _ hS8 (fun _ => ?_)
              clear hK K
              try simp only [Act.put, List.setIfInBounds_toArray, List.set_cons_zero, List.set_cons_succ]
              obtain ⟨x8, hx8⟩ : ∃ x, World.alloc x7 (.cells (hv zw zb 0).toArray 35) = x := ⟨_, rfl⟩
              rw [hx8] at hS8 hb8_7 hb8_6
              simp only [hx8]
              clear hx8
              refine wpAnyH_ready (rs := [8]) (by kernel_rfl) (by simp) ?_
              refine AllReadyH.cons (o := { dst := none, op := Op.store 35 (Operand.tmp 8) (Operand.tmp 25), type := 0, pos := "law.go:76", after := #[{ on := 6, ground := Ground.data }, { on := 2, ground := Ground.data }, { on := 5, ground := Ground.chain }, { on := 0, ground := Ground.phase }, { on := 1, ground := Ground.phase }, { on := 2, ground := Ground.phase }, { on := 3, ground := Ground.textOnly Departure.lateStores }, { on := 4, ground := Ground.textOnly Departure.lateStores }, { on := 5, ground := Ground.textOnly Departure.lateStoresUnsure }, { on := 6, ground := Ground.phase }, { on := 7, ground := Ground.phase }], guard := none }) rfl (fun K hK => ?_) ?_
              · rw [if_pos (by rfl)]
                refine wp_store_row 35 _ _ rfl _ _ rfl rfl 35 _ hb8_6 (i73 _ _ _) (by unfold HV; simp [hv_len]) (arr_all (hv_one _ _ _)) ?_
                have hS9 := below_row hS8 hg6 (HV (a.data.toList ++ b.data.toList)).toArray
                have hb9_6 := hb8_6.row (HV (a.data.toList ++ b.data.toList))
                have hb9_7 := hb8_7.rowFar (m := x7.heap.size) (by omega) (HV (a.data.toList ++ b.data.toList)).toArray
                refine hK.out _ _ hS9 (fun _ => ?_)
                clear hK K
                try simp only [Act.put, List.setIfInBounds_toArray, List.set_cons_zero, List.set_cons_succ]
                refine wpAnyH_ready (rs := [9]) (by kernel_rfl) (by simp) ?_
                refine AllReadyH.cons (o := { dst := none, op := Op.store 35 (Operand.tmp 9) (Operand.tmp 28), type := 0, pos := "law.go:76", after := #[{ on := 7, ground := Ground.data }, { on := 5, ground := Ground.data }, { on := 8, ground := Ground.chain }, { on := 0, ground := Ground.phase }, { on := 1, ground := Ground.phase }, { on := 2, ground := Ground.phase }, { on := 3, ground := Ground.phase }, { on := 4, ground := Ground.phase }, { on := 5, ground := Ground.phase }, { on := 6, ground := Ground.phase }, { on := 7, ground := Ground.phase }, { on := 8, ground := Ground.phase }], guard := none }) rfl (fun K hK => ?_) ?_
                · rw [if_pos (by rfl)]
                  refine wp_store_row 35 _ _ rfl _ _ rfl rfl 35 _ hb9_7 (i73 _ _ _) (by unfold HV; simp [hv_len]) (arr_all (hv_one _ _ _)) ?_
                  have hS10 := below_row hS9 hg7 (HV (a.data.toList ++ c.data.toList)).toArray
                  have hb10_7 := hb9_7.row (HV (a.data.toList ++ c.data.toList))
                  have hb10_6 := hb9_6.rowFar (m := x2.heap.size) (by omega) (HV (a.data.toList ++ c.data.toList)).toArray
                  refine hK.out _ _ hS10 (fun _ => ?_)
                  clear hK K
                  try simp only [Act.put, List.setIfInBounds_toArray, List.set_cons_zero, List.set_cons_succ]
                  refine wpAnyH_done (by kernel_rfl) ?_ _
                  first | go_meet | (go_wp2_with fail; go_meet) | (go_simp; go_meet)
                  exact ⟨_, _, rfl, rfl, Lib.hid hb10_6, Lib.hid hb10_7, Lib.hid hS10⟩
                exact AllReadyH.nil
              exact AllReadyH.nil
            exact AllReadyH.nil
          exact AllReadyH.nil
        refine AllReadyH.cons (o := { dst := some 8, op := Op.alloc 35, type := 0, pos := "law.go:76", after := #[], guard := none }) rfl (fun K hK => ?_) ?_
        · go_simp
          have hS11 : Below (G + 1) wb (World.alloc x1 (.cells (hv zw zb 0).toArray 35)) := hS1.alloc (Nat.le_trans hsz hS1.size) _
          have hb11_6 := Blk.new x1 35 (hv zw zb 0)
          have hg6 : G + 1 ≤ x1.heap.size := Nat.le_trans hsz hS1.size
          refine hK.out _ _ hS11 (fun _ => ?_)
          clear hK K
          try simp only [Act.put, List.setIfInBounds_toArray, List.set_cons_zero, List.set_cons_succ]
          obtain ⟨x11, hx11⟩ : ∃ x, World.alloc x1 (.cells (hv zw zb 0).toArray 35) = x := ⟨_, rfl⟩
          rw [hx11] at hS11 hb11_6
          simp only [hx11]
          clear hx11
          refine wpAnyH_ready (rs := [5, 7]) (by kernel_rfl) (by simp) ?_
          refine AllReadyH.cons (o := { dst := some 28, op := Op.call { callee := Callee.value (Operand.func 14), args := #[Operand.tmp 26, Operand.tmp 27], argTypes := #[35, 9] }, type := 35, pos := "law.go:76", after := #[{ on := 3, ground := Ground.data }, { on := 4, ground := Ground.data }, { on := 2, ground := Ground.chain }], guard := none }) rfl (fun K hK => ?_) ?_
          · go_simp
            refine (HWc.out _ hS11).mono ?_
            rintro e x12 ⟨rfl, hq12⟩
            have hS12 : Below (G + 1) wb x12 := hS11.trans (hq12.mono (Nat.le_trans hsz hS11.size))
            have hb12_6 := hb11_6.go hq12 hb11_6.lt
            go_wp2_with fail
            refine hK.out _ _ hS12 (fun _ => ?_)
            clear hK K
            try simp only [Act.put, List.setIfInBounds_toArray, List.set_cons_zero, List.set_cons_succ]
            refine wpAnyH_ready (rs := [7]) (by kernel_rfl) (by simp) ?_
            refine AllReadyH.cons (o := { dst := some 9, op := Op.alloc 35, type := 0, pos := "law.go:76", after := #[], guard := none }) rfl (fun K hK => ?_) ?_
            · go_simp
              have hS13 : Below (G + 1) wb (World.alloc x12 (.cells (hv zw zb 0).toArray 35)) := hS12.alloc (Nat.le_trans hsz hS12.size) _
              have hb13_7 := Blk.new x12 35 (hv zw zb 0)
              have hg7 : G + 1 ≤ x12.heap.size := Nat.le_trans hsz hS12.size
              have hne := Nat.ne_of_lt hb12_6.lt
              have hb13_6 := hb12_6.old (.cells (hv zw zb 0).toArray 35)
              refine hK.out _ _ hS13 (fun _ => ?_)
              clear hK K
              try simp only [Act.put, List.setIfInBounds_toArray, List.set_cons_zero, List.set_cons_succ]
              obtain ⟨x13, hx13⟩ : ∃ x, World.alloc x12 (.cells (hv zw zb 0).toArray 35) = x := ⟨_, rfl⟩
              rw [hx13] at hS13 hb13_6 hb13_7
              simp only [hx13]
              clear hx13
              refine wpAnyH_ready (rs := [8]) (by kernel_rfl) (by simp) ?_
              refine AllReadyH.cons (o := { dst := none, op := Op.store 35 (Operand.tmp 8) (Operand.tmp 25), type := 0, pos := "law.go:76", after := #[{ on := 6, ground := Ground.data }, { on := 2, ground := Ground.data }, { on := 5, ground := Ground.chain }, { on := 0, ground := Ground.phase }, { on := 1, ground := Ground.phase }, { on := 2, ground := Ground.phase }, { on := 3, ground := Ground.textOnly Departure.lateStores }, { on := 4, ground := Ground.textOnly Departure.lateStores }, { on := 5, ground := Ground.textOnly Departure.lateStoresUnsure }, { on := 6, ground := Ground.phase }, { on := 7, ground := Ground.phase }], guard := none }) rfl (fun K hK => ?_) ?_
              · rw [if_pos (by rfl)]
                refine wp_store_row 35 _ _ rfl _ _ rfl rfl 35 _ hb13_6 (i73 _ _ _) (by unfold HV; simp [hv_len]) (arr_all (hv_one _ _ _)) ?_
                have hS14 := below_row hS13 hg6 (HV (a.data.toList ++ b.data.toList)).toArray
                have hb14_6 := hb13_6.row (HV (a.data.toList ++ b.data.toList))
                have hb14_7 := hb13_7.rowFar (m := x1.heap.size) (by omega) (HV (a.data.toList ++ b.data.toList)).toArray
                refine hK.out _ _ hS14 (fun _ => ?_)
                clear hK K
                try simp only [Act.put, List.setIfInBounds_toArray, List.set_cons_zero, List.set_cons_succ]
                refine wpAnyH_ready (rs := [9]) (by kernel_rfl) (by simp) ?_
                refine AllReadyH.cons (o := { dst := none, op := Op.store 35 (Operand.tmp 9) (Operand.tmp 28), type := 0, pos := "law.go:76", after := #[{ on := 7, ground := Ground.data }, { on := 5, ground := Ground.data }, { on := 8, ground := Ground.chain }, { on := 0, ground := Ground.phase }, { on := 1, ground := Ground.phase }, { on := 2, ground := Ground.phase }, { on := 3, ground := Ground.phase }, { on := 4, ground := Ground.phase }, { on := 5, ground := Ground.phase }, { on := 6, ground := Ground.phase }, { on := 7, ground := Ground.phase }, { on := 8, ground := Ground.phase }], guard := none }) rfl (fun K hK => ?_) ?_
                · rw [if_pos (by rfl)]
                  refine wp_store_row 35 _ _ rfl _ _ rfl rfl 35 _ hb14_7 (i73 _ _ _) (by unfold HV; simp [hv_len]) (arr_all (hv_one _ _ _)) ?_
                  have hS15 := below_row hS14 hg7 (HV (a.data.toList ++ c.data.toList)).toArray
                  have hb15_7 := hb14_7.row (HV (a.data.toList ++ c.data.toList))
                  have hb15_6 := hb14_6.rowFar (m := x12.heap.size) (by omega) (HV (a.data.toList ++ c.data.toList)).toArray
                  refine hK.out _ _ hS15 (fun _ => ?_)
                  clear hK K
                  try simp only [Act.put, List.setIfInBounds_toArray, List.set_cons_zero, List.set_cons_succ]
                  refine wpAnyH_done (by kernel_rfl) ?_ _
                  first | go_meet | (go_wp2_with fail; go_meet) | (go_simp; go_meet)
                  exact ⟨_, _, rfl, rfl, Lib.hid hb15_6, Lib.hid hb15_7, Lib.hid hS15⟩
                exact AllReadyH.nil
              exact AllReadyH.nil
            exact AllReadyH.nil
          refine AllReadyH.cons (o := { dst := some 9, op := Op.alloc 35, type := 0, pos := "law.go:76", after := #[], guard := none }) rfl (fun K hK => ?_) ?_
          · go_simp
            have hS16 : Below (G + 1) wb (World.alloc x11 (.cells (hv zw zb 0).toArray 35)) := hS11.alloc (Nat.le_trans hsz hS11.size) _
            have hb16_7 := Blk.new x11 35 (hv zw zb 0)
            have hg7 : G + 1 ≤ x11.heap.size := Nat.le_trans hsz hS11.size
            have hne := Nat.ne_of_lt hb11_6.lt
            have hb16_6 := hb11_6.old (.cells (hv zw zb 0).toArray 35)
            refine hK.out _ _ hS16 (fun _ => ?_)
            clear hK K
            try simp only [Act.put, List.setIfInBounds_toArray, List.set_cons_zero, List.set_cons_succ]
            obtain ⟨x16, hx16⟩ : ∃ x, World.alloc x11 (.cells (hv zw zb 0).toArray 35) = x := ⟨_, rfl⟩
            rw [hx16] at hS16 hb16_6 hb16_7
            simp only [hx16]
            clear hx16
            refine wpAnyH_ready (rs := [5]) (by kernel_rfl) (by simp) ?_
            refine AllReadyH.cons (o := { dst := some 28, op := Op.call { callee := Callee.value (Operand.func 14), args := #[Operand.tmp 26, Operand.tmp 27], argTypes := #[35, 9] }, type := 35, pos := "law.go:76", after := #[{ on := 3, ground := Ground.data }, { on := 4, ground := Ground.data }, { on := 2, ground := Ground.chain }], guard := none }) rfl (fun K hK => ?_) ?_
            · go_simp
              refine (HWc.out _ hS16).mono ?_
              rintro e x17 ⟨rfl, hq17⟩
              have hS17 : Below (G + 1) wb x17 := hS16.trans (hq17.mono (Nat.le_trans hsz hS16.size))
              have hb17_6 := hb16_6.go hq17 hb16_6.lt
              have hb17_7 := hb16_7.go hq17 hb16_7.lt
              go_wp2_with fail
              refine hK.out _ _ hS17 (fun _ => ?_)
              clear hK K
              try simp only [Act.put, List.setIfInBounds_toArray, List.set_cons_zero, List.set_cons_succ]
              refine wpAnyH_ready (rs := [8]) (by kernel_rfl) (by simp) ?_
              refine AllReadyH.cons (o := { dst := none, op := Op.store 35 (Operand.tmp 8) (Operand.tmp 25), type := 0, pos := "law.go:76", after := #[{ on := 6, ground := Ground.data }, { on := 2, ground := Ground.data }, { on := 5, ground := Ground.chain }, { on := 0, ground := Ground.phase }, { on := 1, ground := Ground.phase }, { on := 2, ground := Ground.phase }, { on := 3, ground := Ground.textOnly Departure.lateStores }, { on := 4, ground := Ground.textOnly Departure.lateStores }, { on := 5, ground := Ground.textOnly Departure.lateStoresUnsure }, { on := 6, ground := Ground.phase }, { on := 7, ground := Ground.phase }], guard := none }) rfl (fun K hK => ?_) ?_
              · rw [if_pos (by rfl)]
                refine wp_store_row 35 _ _ rfl _ _ rfl rfl 35 _ hb17_6 (i73 _ _ _) (by unfold HV; simp [hv_len]) (arr_all (hv_one _ _ _)) ?_
                have hS18 := below_row hS17 hg6 (HV (a.data.toList ++ b.data.toList)).toArray
                have hb18_6 := hb17_6.row (HV (a.data.toList ++ b.data.toList))
                have hb18_7 := hb17_7.rowFar (m := x1.heap.size) (by omega) (HV (a.data.toList ++ b.data.toList)).toArray
                refine hK.out _ _ hS18 (fun _ => ?_)
                clear hK K
                try simp only [Act.put, List.setIfInBounds_toArray, List.set_cons_zero, List.set_cons_succ]
                refine wpAnyH_ready (rs := [9]) (by kernel_rfl) (by simp) ?_
                refine AllReadyH.cons (o := { dst := none, op := Op.store 35 (Operand.tmp 9) (Operand.tmp 28), type := 0, pos := "law.go:76", after := #[{ on := 7, ground := Ground.data }, { on := 5, ground := Ground.data }, { on := 8, ground := Ground.chain }, { on := 0, ground := Ground.phase }, { on := 1, ground := Ground.phase }, { on := 2, ground := Ground.phase }, { on := 3, ground := Ground.phase }, { on := 4, ground := Ground.phase }, { on := 5, ground := Ground.phase }, { on := 6, ground := Ground.phase }, { on := 7, ground := Ground.phase }, { on := 8, ground := Ground.phase }], guard := none }) rfl (fun K hK => ?_) ?_
                · rw [if_pos (by rfl)]
                  refine wp_store_row 35 _ _ rfl _ _ rfl rfl 35 _ hb18_7 (i73 _ _ _) (by unfold HV; simp [hv_len]) (arr_all (hv_one _ _ _)) ?_
                  have hS19 := below_row hS18 hg7 (HV (a.data.toList ++ c.data.toList)).toArray
                  have hb19_7 := hb18_7.row (HV (a.data.toList ++ c.data.toList))
                  have hb19_6 := hb18_6.rowFar (m := x11.heap.size) (by omega) (HV (a.data.toList ++ c.data.toList)).toArray
                  refine hK.out _ _ hS19 (fun _ => ?_)
                  clear hK K
                  try simp only [Act.put, List.setIfInBounds_toArray, List.set_cons_zero, List.set_cons_succ]
                  refine wpAnyH_done (by kernel_rfl) ?_ _
                  first | go_meet | (go_wp2_with fail; go_meet) | (go_simp; go_meet)
                  exact ⟨_, _, rfl, rfl, Lib.hid hb19_6, Lib.hid hb19_7, Lib.hid hS19⟩
                exact AllReadyH.nil
              exact AllReadyH.nil
            exact AllReadyH.nil
          exact AllReadyH.nil
        refine AllReadyH.cons (o := { dst := some 9, op := Op.alloc 35, type := 0, pos := "law.go:76", after := #[], guard := none }) rfl (fun K hK => ?_) ?_
        · go_simp
          have hS20 : Below (G + 1) wb (World.alloc x1 (.cells (hv zw zb 0).toArray 35)) := hS1.alloc (Nat.le_trans hsz hS1.size) _
          have hb20_7 := Blk.new x1 35 (hv zw zb 0)
          have hg7 : G + 1 ≤ x1.heap.size := Nat.le_trans hsz hS1.size
          refine hK.out _ _ hS20 (fun _ => ?_)
          clear hK K
          try simp only [Act.put, List.setIfInBounds_toArray, List.set_cons_zero, List.set_cons_succ]
          obtain ⟨x20, hx20⟩ : ∃ x, World.alloc x1 (.cells (hv zw zb 0).toArray 35) = x := ⟨_, rfl⟩
          rw [hx20] at hS20 hb20_7
          simp only [hx20]
          clear hx20
          refine wpAnyH_ready (rs := [5, 6]) (by kernel_rfl) (by simp) ?_
          refine AllReadyH.cons (o := { dst := some 28, op := Op.call { callee := Callee.value (Operand.func 14), args := #[Operand.tmp 26, Operand.tmp 27], argTypes := #[35, 9] }, type := 35, pos := "law.go:76", after := #[{ on := 3, ground := Ground.data }, { on := 4, ground := Ground.data }, { on := 2, ground := Ground.chain }], guard := none }) rfl (fun K hK => ?_) ?_
          · go_simp
            refine (HWc.out _ hS20).mono ?_
            rintro e x21 ⟨rfl, hq21⟩
            have hS21 : Below (G + 1) wb x21 := hS20.trans (hq21.mono (Nat.le_trans hsz hS20.size))
            have hb21_7 := hb20_7.go hq21 hb20_7.lt
            go_wp2_with fail
            refine hK.out _ _ hS21 (fun _ => ?_)
            clear hK K
            try simp only [Act.put, List.setIfInBounds_toArray, List.set_cons_zero, List.set_cons_succ]
            refine wpAnyH_ready (rs := [6]) (by kernel_rfl) (by simp) ?_
            refine AllReadyH.cons (o := { dst := some 8, op := Op.alloc 35, type := 0, pos := "law.go:76", after := #[], guard := none }) rfl (fun K hK => ?_) ?_
            · go_simp
              have hS22 : Below (G + 1) wb (World.alloc x21 (.cells (hv zw zb 0).toArray 35)) := hS21.alloc (Nat.le_trans hsz hS21.size) _
              have hb22_6 := Blk.new x21 35 (hv zw zb 0)
              have hg6 : G + 1 ≤ x21.heap.size := Nat.le_trans hsz hS21.size
              have hne := Nat.ne_of_lt hb21_7.lt
              have hb22_7 := hb21_7.old (.cells (hv zw zb 0).toArray 35)
              refine hK.out _ _ hS22 (fun _ => ?_)
              clear hK K
              try simp only [Act.put, List.setIfInBounds_toArray, List.set_cons_zero, List.set_cons_succ]
              obtain ⟨x22, hx22⟩ : ∃ x, World.alloc x21 (.cells (hv zw zb 0).toArray 35) = x := ⟨_, rfl⟩
              rw [hx22] at hS22 hb22_7 hb22_6
              simp only [hx22]
              clear hx22
              refine wpAnyH_ready (rs := [8]) (by kernel_rfl) (by simp) ?_
              refine AllReadyH.cons (o := { dst := none, op := Op.store 35 (Operand.tmp 8) (Operand.tmp 25), type := 0, pos := "law.go:76", after := #[{ on := 6, ground := Ground.data }, { on := 2, ground := Ground.data }, { on := 5, ground := Ground.chain }, { on := 0, ground := Ground.phase }, { on := 1, ground := Ground.phase }, { on := 2, ground := Ground.phase }, { on := 3, ground := Ground.textOnly Departure.lateStores }, { on := 4, ground := Ground.textOnly Departure.lateStores }, { on := 5, ground := Ground.textOnly Departure.lateStoresUnsure }, { on := 6, ground := Ground.phase }, { on := 7, ground := Ground.phase }], guard := none }) rfl (fun K hK => ?_) ?_
              · rw [if_pos (by rfl)]
                refine wp_store_row 35 _ _ rfl _ _ rfl rfl 35 _ hb22_6 (i73 _ _ _) (by unfold HV; simp [hv_len]) (arr_all (hv_one _ _ _)) ?_
                have hS23 := below_row hS22 hg6 (HV (a.data.toList ++ b.data.toList)).toArray
                have hb23_6 := hb22_6.row (HV (a.data.toList ++ b.data.toList))
                have hb23_7 := hb22_7.rowFar (m := x21.heap.size) (by omega) (HV (a.data.toList ++ b.data.toList)).toArray
                refine hK.out _ _ hS23 (fun _ => ?_)
                clear hK K
                try simp only [Act.put, List.setIfInBounds_toArray, List.set_cons_zero, List.set_cons_succ]
                refine wpAnyH_ready (rs := [9]) (by kernel_rfl) (by simp) ?_
                refine AllReadyH.cons (o := { dst := none, op := Op.store 35 (Operand.tmp 9) (Operand.tmp 28), type := 0, pos := "law.go:76", after := #[{ on := 7, ground := Ground.data }, { on := 5, ground := Ground.data }, { on := 8, ground := Ground.chain }, { on := 0, ground := Ground.phase }, { on := 1, ground := Ground.phase }, { on := 2, ground := Ground.phase }, { on := 3, ground := Ground.phase }, { on := 4, ground := Ground.phase }, { on := 5, ground := Ground.phase }, { on := 6, ground := Ground.phase }, { on := 7, ground := Ground.phase }, { on := 8, ground := Ground.phase }], guard := none }) rfl (fun K hK => ?_) ?_
                · rw [if_pos (by rfl)]
                  refine wp_store_row 35 _ _ rfl _ _ rfl rfl 35 _ hb23_7 (i73 _ _ _) (by unfold HV; simp [hv_len]) (arr_all (hv_one _ _ _)) ?_
                  have hS24 := below_row hS23 hg7 (HV (a.data.toList ++ c.data.toList)).toArray
                  have hb24_7 := hb23_7.row (HV (a.data.toList ++ c.data.toList))
                  have hb24_6 := hb23_6.rowFar (m := x1.heap.size) (by omega) (HV (a.data.toList ++ c.data.toList)).toArray
                  refine hK.out _ _ hS24 (fun _ => ?_)
                  clear hK K
                  try simp only [Act.put, List.setIfInBounds_toArray, List.set_cons_zero, List.set_cons_succ]
                  refine wpAnyH_done (by kernel_rfl) ?_ _
                  first | go_meet | (go_wp2_with fail; go_meet) | (go_simp; go_meet)
                  exact ⟨_, _, rfl, rfl, Lib.hid hb24_6, Lib.hid hb24_7, Lib.hid hS24⟩
                exact AllReadyH.nil
              exact AllReadyH.nil
            exact AllReadyH.nil
          refine AllReadyH.cons (o := { dst := some 8, op := Op.alloc 35, type := 0, pos := "law.go:76", after := #[], guard := none }) rfl (fun K hK => ?_) ?_
          · go_simp
            have hS25 : Below (G + 1) wb (World.alloc x20 (.cells (hv zw zb 0).toArray 35)) := hS20.alloc (Nat.le_trans hsz hS20.size) _
            have hb25_6 := Blk.new x20 35 (hv zw zb 0)
            have hg6 : G + 1 ≤ x20.heap.size := Nat.le_trans hsz hS20.size
            have hne := Nat.ne_of_lt hb20_7.lt
            have hb25_7 := hb20_7.old (.cells (hv zw zb 0).toArray 35)
            refine hK.out _ _ hS25 (fun _ => ?_)
            clear hK K
            try simp only [Act.put, List.setIfInBounds_toArray, List.set_cons_zero, List.set_cons_succ]
            obtain ⟨x25, hx25⟩ : ∃ x, World.alloc x20 (.cells (hv zw zb 0).toArray 35) = x := ⟨_, rfl⟩
            rw [hx25] at hS25 hb25_7 hb25_6
            simp only [hx25]
            clear hx25
            refine wpAnyH_ready (rs := [5]) (by kernel_rfl) (by simp) ?_
            refine AllReadyH.cons (o := { dst := some 28, op := Op.call { callee := Callee.value (Operand.func 14), args := #[Operand.tmp 26, Operand.tmp 27], argTypes := #[35, 9] }, type := 35, pos := "law.go:76", after := #[{ on := 3, ground := Ground.data }, { on := 4, ground := Ground.data }, { on := 2, ground := Ground.chain }], guard := none }) rfl (fun K hK => ?_) ?_
            · go_simp
              refine (HWc.out _ hS25).mono ?_
              rintro e x26 ⟨rfl, hq26⟩
              have hS26 : Below (G + 1) wb x26 := hS25.trans (hq26.mono (Nat.le_trans hsz hS25.size))
              have hb26_7 := hb25_7.go hq26 hb25_7.lt
              have hb26_6 := hb25_6.go hq26 hb25_6.lt
              go_wp2_with fail
              refine hK.out _ _ hS26 (fun _ => ?_)
              clear hK K
              try simp only [Act.put, List.setIfInBounds_toArray, List.set_cons_zero, List.set_cons_succ]
              refine wpAnyH_ready (rs := [8]) (by kernel_rfl) (by simp) ?_
              refine AllReadyH.cons (o := { dst := none, op := Op.store 35 (Operand.tmp 8) (Operand.tmp 25), type := 0, pos := "law.go:76", after := #[{ on := 6, ground := Ground.data }, { on := 2, ground := Ground.data }, { on := 5, ground := Ground.chain }, { on := 0, ground := Ground.phase }, { on := 1, ground := Ground.phase }, { on := 2, ground := Ground.phase }, { on := 3, ground := Ground.textOnly Departure.lateStores }, { on := 4, ground := Ground.textOnly Departure.lateStores }, { on := 5, ground := Ground.textOnly Departure.lateStoresUnsure }, { on := 6, ground := Ground.phase }, { on := 7, ground := Ground.phase }], guard := none }) rfl (fun K hK => ?_) ?_
              · rw [if_pos (by rfl)]
                refine wp_store_row 35 _ _ rfl _ _ rfl rfl 35 _ hb26_6 (i73 _ _ _) (by unfold HV; simp [hv_len]) (arr_all (hv_one _ _ _)) ?_
                have hS27 := below_row hS26 hg6 (HV (a.data.toList ++ b.data.toList)).toArray
                have hb27_6 := hb26_6.row (HV (a.data.toList ++ b.data.toList))
                have hb27_7 := hb26_7.rowFar (m := x20.heap.size) (by omega) (HV (a.data.toList ++ b.data.toList)).toArray
                refine hK.out _ _ hS27 (fun _ => ?_)
                clear hK K
                try simp only [Act.put, List.setIfInBounds_toArray, List.set_cons_zero, List.set_cons_succ]
                refine wpAnyH_ready (rs := [9]) (by kernel_rfl) (by simp) ?_
                refine AllReadyH.cons (o := { dst := none, op := Op.store 35 (Operand.tmp 9) (Operand.tmp 28), type := 0, pos := "law.go:76", after := #[{ on := 7, ground := Ground.data }, { on := 5, ground := Ground.data }, { on := 8, ground := Ground.chain }, { on := 0, ground := Ground.phase }, { on := 1, ground := Ground.phase }, { on := 2, ground := Ground.phase }, { on := 3, ground := Ground.phase }, { on := 4, ground := Ground.phase }, { on := 5, ground := Ground.phase }, { on := 6, ground := Ground.phase }, { on := 7, ground := Ground.phase }, { on := 8, ground := Ground.phase }], guard := none }) rfl (fun K hK => ?_) ?_
                · rw [if_pos (by rfl)]
                  refine wp_store_row 35 _ _ rfl _ _ rfl rfl 35 _ hb27_7 (i73 _ _ _) (by unfold HV; simp [hv_len]) (arr_all (hv_one _ _ _)) ?_
                  have hS28 := below_row hS27 hg7 (HV (a.data.toList ++ c.data.toList)).toArray
                  have hb28_7 := hb27_7.row (HV (a.data.toList ++ c.data.toList))
                  have hb28_6 := hb27_6.rowFar (m := x1.heap.size) (by omega) (HV (a.data.toList ++ c.data.toList)).toArray
                  refine hK.out _ _ hS28 (fun _ => ?_)
                  clear hK K
                  try simp only [Act.put, List.setIfInBounds_toArray, List.set_cons_zero, List.set_cons_succ]
                  refine wpAnyH_done (by kernel_rfl) ?_ _
                  first | go_meet | (go_wp2_with fail; go_meet) | (go_simp; go_meet)
                  exact ⟨_, _, rfl, rfl, Lib.hid hb28_6, Lib.hid hb28_7, Lib.hid hS28⟩
                exact AllReadyH.nil
              exact AllReadyH.nil
            exact AllReadyH.nil
          exact AllReadyH.nil
        exact AllReadyH.nil
      refine AllReadyH.cons (o := { dst := some 8, op := Op.alloc 35, type := 0, pos := "law.go:76", after := #[], guard := none }) rfl (fun K hK => ?_) ?_
      · go_simp
        have hS29 : Below (G + 1) wb (World.alloc wb (.cells (hv zw zb 0).toArray 35)).drew := ((Below.refl (G + 1) wb).alloc hsz _).drew
        have hb29_6 : Blk (World.alloc wb (.cells (hv zw zb 0).toArray 35)).drew wb.heap.size 35 (hv zw zb 0) := Blk.new wb 35 (hv zw zb 0)
        have hg6 : G + 1 ≤ wb.heap.size := hsz
        refine hK.out _ _ hS29 (fun _ => ?_)
        clear hK K
        try simp only [Act.put, List.setIfInBounds_toArray, List.set_cons_zero, List.set_cons_succ]
        obtain ⟨x29, hx29⟩ : ∃ x, (World.alloc wb (.cells (hv zw zb 0).toArray 35)).drew = x := ⟨_, rfl⟩
        rw [hx29] at hS29 hb29_6
        simp only [hx29]
        clear hx29
        refine wpAnyH_ready (rs := [2, 7]) (by kernel_rfl) (by simp) ?_
        refine AllReadyH.cons (o := { dst := some 25, op := Op.call { callee := Callee.value (Operand.func 14), args := #[Operand.tmp 23, Operand.tmp 24], argTypes := #[35, 9] }, type := 35, pos := "law.go:76", after := #[{ on := 0, ground := Ground.data }, { on := 1, ground := Ground.data }], guard := none }) rfl (fun K hK => ?_) ?_
        · go_simp
          refine (HWb.out _ hS29).mono ?_
          rintro e x30 ⟨rfl, hq30⟩
          have hS30 : Below (G + 1) wb x30 := hS29.trans (hq30.mono (Nat.le_trans hsz hS29.size))
          have hb30_6 := hb29_6.go hq30 hb29_6.lt
          go_wp2_with fail
          refine hK.out _ _ hS30 (fun _ => ?_)
          clear hK K
          try simp only [Act.put, List.setIfInBounds_toArray, List.set_cons_zero, List.set_cons_succ]
          refine wpAnyH_ready (rs := [5, 7]) (by kernel_rfl) (by simp) ?_
          refine AllReadyH.cons (o := { dst := some 28, op := Op.call { callee := Callee.value (Operand.func 14), args := #[Operand.tmp 26, Operand.tmp 27], argTypes := #[35, 9] }, type := 35, pos := "law.go:76", after := #[{ on := 3, ground := Ground.data }, { on := 4, ground := Ground.data }, { on := 2, ground := Ground.chain }], guard := none }) rfl (fun K hK => ?_) ?_
          · go_simp
            refine (HWc.out _ hS30).mono ?_
            rintro e x31 ⟨rfl, hq31⟩
            have hS31 : Below (G + 1) wb x31 := hS30.trans (hq31.mono (Nat.le_trans hsz hS30.size))
            have hb31_6 := hb30_6.go hq31 hb30_6.lt
            go_wp2_with fail
            refine hK.out _ _ hS31 (fun _ => ?_)
            clear hK K
            try simp only [Act.put, List.setIfInBounds_toArray, List.set_cons_zero, List.set_cons_succ]
            refine wpAnyH_ready (rs := [7]) (by kernel_rfl) (by simp) ?_
            refine AllReadyH.cons (o := { dst := some 9, op := Op.alloc 35, type := 0, pos := "law.go:76", after := #[], guard := none }) rfl (fun K hK => ?_) ?_
            · go_simp
              have hS32 : Below (G + 1) wb (World.alloc x31 (.cells (hv zw zb 0).toArray 35)) := hS31.alloc (Nat.le_trans hsz hS31.size) _
              have hb32_7 := Blk.new x31 35 (hv zw zb 0)
              have hg7 : G + 1 ≤ x31.heap.size := Nat.le_trans hsz hS31.size
              have hne := Nat.ne_of_lt hb31_6.lt
              have hb32_6 := hb31_6.old (.cells (hv zw zb 0).toArray 35)
              refine hK.out _ _ hS32 (fun _ => ?_)
              clear hK K
              try simp only [Act.put, List.setIfInBounds_toArray, List.set_cons_zero, List.set_cons_succ]
              obtain ⟨x32, hx32⟩ : ∃ x, World.alloc x31 (.cells (hv zw zb 0).toArray 35) = x := ⟨_, rfl⟩
              rw [hx32] at hS32 hb32_6 hb32_7
              simp only [hx32]
              clear hx32
              refine wpAnyH_ready (rs := [8]) (by kernel_rfl) (by simp) ?_
              refine AllReadyH.cons (o := { dst := none, op := Op.store 35 (Operand.tmp 8) (Operand.tmp 25), type := 0, pos := "law.go:76", after := #[{ on := 6, ground := Ground.data }, { on := 2, ground := Ground.data }, { on := 5, ground := Ground.chain }, { on := 0, ground := Ground.phase }, { on := 1, ground := Ground.phase }, { on := 2, ground := Ground.phase }, { on := 3, ground := Ground.textOnly Departure.lateStores }, { on := 4, ground := Ground.textOnly Departure.lateStores }, { on := 5, ground := Ground.textOnly Departure.lateStoresUnsure }, { on := 6, ground := Ground.phase }, { on := 7, ground := Ground.phase }], guard := none }) rfl (fun K hK => ?_) ?_
              · rw [if_pos (by rfl)]
                refine wp_store_row 35 _ _ rfl _ _ rfl rfl 35 _ hb32_6 (i73 _ _ _) (by unfold HV; simp [hv_len]) (arr_all (hv_one _ _ _)) ?_
                have hS33 := below_row hS32 hg6 (HV (a.data.toList ++ b.data.toList)).toArray
                have hb33_6 := hb32_6.row (HV (a.data.toList ++ b.data.toList))
                have hb33_7 := hb32_7.rowFar (m := wb.heap.size) (by omega) (HV (a.data.toList ++ b.data.toList)).toArray
                refine hK.out _ _ hS33 (fun _ => ?_)
                clear hK K
                try simp only [Act.put, List.setIfInBounds_toArray, List.set_cons_zero, List.set_cons_succ]
                refine wpAnyH_ready (rs := [9]) (by kernel_rfl) (by simp) ?_
                refine AllReadyH.cons (o := { dst := none, op := Op.store 35 (Operand.tmp 9) (Operand.tmp 28), type := 0, pos := "law.go:76", after := #[{ on := 7, ground := Ground.data }, { on := 5, ground := Ground.data }, { on := 8, ground := Ground.chain }, { on := 0, ground := Ground.phase }, { on := 1, ground := Ground.phase }, { on := 2, ground := Ground.phase }, { on := 3, ground := Ground.phase }, { on := 4, ground := Ground.phase }, { on := 5, ground := Ground.phase }, { on := 6, ground := Ground.phase }, { on := 7, ground := Ground.phase }, { on := 8, ground := Ground.phase }], guard := none }) rfl (fun K hK => ?_) ?_
                · rw [if_pos (by rfl)]
                  refine wp_store_row 35 _ _ rfl _ _ rfl rfl 35 _ hb33_7 (i73 _ _ _) (by unfold HV; simp [hv_len]) (arr_all (hv_one _ _ _)) ?_
                  have hS34 := below_row hS33 hg7 (HV (a.data.toList ++ c.data.toList)).toArray
                  have hb34_7 := hb33_7.row (HV (a.data.toList ++ c.data.toList))
                  have hb34_6 := hb33_6.rowFar (m := x31.heap.size) (by omega) (HV (a.data.toList ++ c.data.toList)).toArray
                  refine hK.out _ _ hS34 (fun _ => ?_)
                  clear hK K
                  try simp only [Act.put, List.setIfInBounds_toArray, List.set_cons_zero, List.set_cons_succ]
                  refine wpAnyH_done (by kernel_rfl) ?_ _
                  first | go_meet | (go_wp2_with fail; go_meet) | (go_simp; go_meet)
                  exact ⟨_, _, rfl, rfl, Lib.hid hb34_6, Lib.hid hb34_7, Lib.hid hS34⟩
                exact AllReadyH.nil
              exact AllReadyH.nil
            exact AllReadyH.nil
          refine AllReadyH.cons (o := { dst := some 9, op := Op.alloc 35, type := 0, pos := "law.go:76", after := #[], guard := none }) rfl (fun K hK => ?_) ?_
          · go_simp
            have hS35 : Below (G + 1) wb (World.alloc x30 (.cells (hv zw zb 0).toArray 35)) := hS30.alloc (Nat.le_trans hsz hS30.size) _
            have hb35_7 := Blk.new x30 35 (hv zw zb 0)
            have hg7 : G + 1 ≤ x30.heap.size := Nat.le_trans hsz hS30.size
            have hne := Nat.ne_of_lt hb30_6.lt
            have hb35_6 := hb30_6.old (.cells (hv zw zb 0).toArray 35)
            refine hK.out _ _ hS35 (fun _ => ?_)
            clear hK K
            try simp only [Act.put, List.setIfInBounds_toArray, List.set_cons_zero, List.set_cons_succ]
            obtain ⟨x35, hx35⟩ : ∃ x, World.alloc x30 (.cells (hv zw zb 0).toArray 35) = x := ⟨_, rfl⟩
            rw [hx35] at hS35 hb35_6 hb35_7
            simp only [hx35]
            clear hx35
            refine wpAnyH_ready (rs := [5]) (by kernel_rfl) (by simp) ?_
            refine AllReadyH.cons (o := { dst := some 28, op := Op.call { callee := Callee.value (Operand.func 14), args := #[Operand.tmp 26, Operand.tmp 27], argTypes := #[35, 9] }, type := 35, pos := "law.go:76", after := #[{ on := 3, ground := Ground.data }, { on := 4, ground := Ground.data }, { on := 2, ground := Ground.chain }], guard := none }) rfl (fun K hK => ?_) ?_
            · go_simp
              refine (HWc.out _ hS35).mono ?_
              rintro e x36 ⟨rfl, hq36⟩
              have hS36 : Below (G + 1) wb x36 := hS35.trans (hq36.mono (Nat.le_trans hsz hS35.size))
              have hb36_6 := hb35_6.go hq36 hb35_6.lt
              have hb36_7 := hb35_7.go hq36 hb35_7.lt
              go_wp2_with fail
              refine hK.out _ _ hS36 (fun _ => ?_)
              clear hK K
              try simp only [Act.put, List.setIfInBounds_toArray, List.set_cons_zero, List.set_cons_succ]
              refine wpAnyH_ready (rs := [8]) (by kernel_rfl) (by simp) ?_
              refine AllReadyH.cons (o := { dst := none, op := Op.store 35 (Operand.tmp 8) (Operand.tmp 25), type := 0, pos := "law.go:76", after := #[{ on := 6, ground := Ground.data }, { on := 2, ground := Ground.data }, { on := 5, ground := Ground.chain }, { on := 0, ground := Ground.phase }, { on := 1, ground := Ground.phase }, { on := 2, ground := Ground.phase }, { on := 3, ground := Ground.textOnly Departure.lateStores }, { on := 4, ground := Ground.textOnly Departure.lateStores }, { on := 5, ground := Ground.textOnly Departure.lateStoresUnsure }, { on := 6, ground := Ground.phase }, { on := 7, ground := Ground.phase }], guard := none }) rfl (fun K hK => ?_) ?_
              · rw [if_pos (by rfl)]
                refine wp_store_row 35 _ _ rfl _ _ rfl rfl 35 _ hb36_6 (i73 _ _ _) (by unfold HV; simp [hv_len]) (arr_all (hv_one _ _ _)) ?_
                have hS37 := below_row hS36 hg6 (HV (a.data.toList ++ b.data.toList)).toArray
                have hb37_6 := hb36_6.row (HV (a.data.toList ++ b.data.toList))
                have hb37_7 := hb36_7.rowFar (m := wb.heap.size) (by omega) (HV (a.data.toList ++ b.data.toList)).toArray
                refine hK.out _ _ hS37 (fun _ => ?_)
                clear hK K
                try simp only [Act.put, List.setIfInBounds_toArray, List.set_cons_zero, List.set_cons_succ]
                refine wpAnyH_ready (rs := [9]) (by kernel_rfl) (by simp) ?_
                refine AllReadyH.cons (o := { dst := none, op := Op.store 35 (Operand.tmp 9) (Operand.tmp 28), type := 0, pos := "law.go:76", after := #[{ on := 7, ground := Ground.data }, { on := 5, ground := Ground.data }, { on := 8, ground := Ground.chain }, { on := 0, ground := Ground.phase }, { on := 1, ground := Ground.phase }, { on := 2, ground := Ground.phase }, { on := 3, ground := Ground.phase }, { on := 4, ground := Ground.phase }, { on := 5, ground := Ground.phase }, { on := 6, ground := Ground.phase }, { on := 7, ground := Ground.phase }, { on := 8, ground := Ground.phase }], guard := none }) rfl (fun K hK => ?_) ?_
                · rw [if_pos (by rfl)]
                  refine wp_store_row 35 _ _ rfl _ _ rfl rfl 35 _ hb37_7 (i73 _ _ _) (by unfold HV; simp [hv_len]) (arr_all (hv_one _ _ _)) ?_
                  have hS38 := below_row hS37 hg7 (HV (a.data.toList ++ c.data.toList)).toArray
                  have hb38_7 := hb37_7.row (HV (a.data.toList ++ c.data.toList))
                  have hb38_6 := hb37_6.rowFar (m := x30.heap.size) (by omega) (HV (a.data.toList ++ c.data.toList)).toArray
                  refine hK.out _ _ hS38 (fun _ => ?_)
                  clear hK K
                  try simp only [Act.put, List.setIfInBounds_toArray, List.set_cons_zero, List.set_cons_succ]
                  refine wpAnyH_done (by kernel_rfl) ?_ _
                  first | go_meet | (go_wp2_with fail; go_meet) | (go_simp; go_meet)
                  exact ⟨_, _, rfl, rfl, Lib.hid hb38_6, Lib.hid hb38_7, Lib.hid hS38⟩
                exact AllReadyH.nil
              exact AllReadyH.nil
            exact AllReadyH.nil
          exact AllReadyH.nil
        refine AllReadyH.cons (o := { dst := some 9, op := Op.alloc 35, type := 0, pos := "law.go:76", after := #[], guard := none }) rfl (fun K hK => ?_) ?_
        · go_simp
          have hS39 : Below (G + 1) wb (World.alloc x29 (.cells (hv zw zb 0).toArray 35)) := hS29.alloc (Nat.le_trans hsz hS29.size) _
          have hb39_7 := Blk.new x29 35 (hv zw zb 0)
          have hg7 : G + 1 ≤ x29.heap.size := Nat.le_trans hsz hS29.size
          have hne := Nat.ne_of_lt hb29_6.lt
          have hb39_6 := hb29_6.old (.cells (hv zw zb 0).toArray 35)
          refine hK.out _ _ hS39 (fun _ => ?_)
          clear hK K
          try simp only [Act.put, List.setIfInBounds_toArray, List.set_cons_zero, List.set_cons_succ]
          obtain ⟨x39, hx39⟩ : ∃ x, World.alloc x29 (.cells (hv zw zb 0).toArray 35) = x := ⟨_, rfl⟩
          rw [hx39] at hS39 hb39_6 hb39_7
          simp only [hx39]
          clear hx39
          refine wpAnyH_ready (rs := [2]) (by kernel_rfl) (by simp) ?_
          refine AllReadyH.cons (o := { dst := some 25, op := Op.call { callee := Callee.value (Operand.func 14), args := #[Operand.tmp 23, Operand.tmp 24], argTypes := #[35, 9] }, type := 35, pos := "law.go:76", after := #[{ on := 0, ground := Ground.data }, { on := 1, ground := Ground.data }], guard := none }) rfl (fun K hK => ?_) ?_
          · go_simp
            refine (HWb.out _ hS39).mono ?_
            rintro e x40 ⟨rfl, hq40⟩
            have hS40 : Below (G + 1) wb x40 := hS39.trans (hq40.mono (Nat.le_trans hsz hS39.size))
            have hb40_6 := hb39_6.go hq40 hb39_6.lt
            have hb40_7 := hb39_7.go hq40 hb39_7.lt
            go_wp2_with fail
            refine hK.out _ _ hS40 (fun _ => ?_)
            clear hK K
            try simp only [Act.put, List.setIfInBounds_toArray, List.set_cons_zero, List.set_cons_succ]
            refine wpAnyH_ready (rs := [5]) (by kernel_rfl) (by simp) ?_
            refine AllReadyH.cons (o := { dst := some 28, op := Op.call { callee := Callee.value (Operand.func 14), args := #[Operand.tmp 26, Operand.tmp 27], argTypes := #[35, 9] }, type := 35, pos := "law.go:76", after := #[{ on := 3, ground := Ground.data }, { on := 4, ground := Ground.data }, { on := 2, ground := Ground.chain }], guard := none }) rfl (fun K hK => ?_) ?_
            · go_simp
              refine (HWc.out _ hS40).mono ?_
              rintro e x41 ⟨rfl, hq41⟩
              have hS41 : Below (G + 1) wb x41 := hS40.trans (hq41.mono (Nat.le_trans hsz hS40.size))
              have hb41_6 := hb40_6.go hq41 hb40_6.lt
              have hb41_7 := hb40_7.go hq41 hb40_7.lt
              go_wp2_with fail
              refine hK.out _ _ hS41 (fun _ => ?_)
              clear hK K
              try simp only [Act.put, List.setIfInBounds_toArray, List.set_cons_zero, List.set_cons_succ]
              refine wpAnyH_ready (rs := [8]) (by kernel_rfl) (by simp) ?_
              refine AllReadyH.cons (o := { dst := none, op := Op.store 35 (Operand.tmp 8) (Operand.tmp 25), type := 0, pos := "law.go:76", after := #[{ on := 6, ground := Ground.data }, { on := 2, ground := Ground.data }, { on := 5, ground := Ground.chain }, { on := 0, ground := Ground.phase }, { on := 1, ground := Ground.phase }, { on := 2, ground := Ground.phase }, { on := 3, ground := Ground.textOnly Departure.lateStores }, { on := 4, ground := Ground.textOnly Departure.lateStores }, { on := 5, ground := Ground.textOnly Departure.lateStoresUnsure }, { on := 6, ground := Ground.phase }, { on := 7, ground := Ground.phase }], guard := none }) rfl (fun K hK => ?_) ?_
              · rw [if_pos (by rfl)]
                refine wp_store_row 35 _ _ rfl _ _ rfl rfl 35 _ hb41_6 (i73 _ _ _) (by unfold HV; simp [hv_len]) (arr_all (hv_one _ _ _)) ?_
                have hS42 := below_row hS41 hg6 (HV (a.data.toList ++ b.data.toList)).toArray
                have hb42_6 := hb41_6.row (HV (a.data.toList ++ b.data.toList))
                have hb42_7 := hb41_7.rowFar (m := wb.heap.size) (by omega) (HV (a.data.toList ++ b.data.toList)).toArray
                refine hK.out _ _ hS42 (fun _ => ?_)
                clear hK K
                try simp only [Act.put, List.setIfInBounds_toArray, List.set_cons_zero, List.set_cons_succ]
                refine wpAnyH_ready (rs := [9]) (by kernel_rfl) (by simp) ?_
                refine AllReadyH.cons (o := { dst := none, op := Op.store 35 (Operand.tmp 9) (Operand.tmp 28), type := 0, pos := "law.go:76", after := #[{ on := 7, ground := Ground.data }, { on := 5, ground := Ground.data }, { on := 8, ground := Ground.chain }, { on := 0, ground := Ground.phase }, { on := 1, ground := Ground.phase }, { on := 2, ground := Ground.phase }, { on := 3, ground := Ground.phase }, { on := 4, ground := Ground.phase }, { on := 5, ground := Ground.phase }, { on := 6, ground := Ground.phase }, { on := 7, ground := Ground.phase }, { on := 8, ground := Ground.phase }], guard := none }) rfl (fun K hK => ?_) ?_
                · rw [if_pos (by rfl)]
                  refine wp_store_row 35 _ _ rfl _ _ rfl rfl 35 _ hb42_7 (i73 _ _ _) (by unfold HV; simp [hv_len]) (arr_all (hv_one _ _ _)) ?_
                  have hS43 := below_row hS42 hg7 (HV (a.data.toList ++ c.data.toList)).toArray
                  have hb43_7 := hb42_7.row (HV (a.data.toList ++ c.data.toList))
                  have hb43_6 := hb42_6.rowFar (m := x29.heap.size) (by omega) (HV (a.data.toList ++ c.data.toList)).toArray
                  refine hK.out _ _ hS43 (fun _ => ?_)
                  clear hK K
                  try simp only [Act.put, List.setIfInBounds_toArray, List.set_cons_zero, List.set_cons_succ]
                  refine wpAnyH_done (by kernel_rfl) ?_ _
                  first | go_meet | (go_wp2_with fail; go_meet) | (go_simp; go_meet)
                  exact ⟨_, _, rfl, rfl, Lib.hid hb43_6, Lib.hid hb43_7, Lib.hid hS43⟩
                exact AllReadyH.nil
              exact AllReadyH.nil
            exact AllReadyH.nil
          exact AllReadyH.nil
        exact AllReadyH.nil
      refine AllReadyH.cons (o := { dst := some 9, op := Op.alloc 35, type := 0, pos := "law.go:76", after := #[], guard := none }) rfl (fun K hK => ?_) ?_
      · go_simp
        have hS44 : Below (G + 1) wb (World.alloc wb (.cells (hv zw zb 0).toArray 35)).drew := ((Below.refl (G + 1) wb).alloc hsz _).drew
        have hb44_7 : Blk (World.alloc wb (.cells (hv zw zb 0).toArray 35)).drew wb.heap.size 35 (hv zw zb 0) := Blk.new wb 35 (hv zw zb 0)
        have hg7 : G + 1 ≤ wb.heap.size := hsz
        refine hK.out _ _ hS44 (fun _ => ?_)
        clear hK K
        try simp only [Act.put, List.setIfInBounds_toArray, List.set_cons_zero, List.set_cons_succ]
        obtain ⟨x44, hx44⟩ : ∃ x, (World.alloc wb (.cells (hv zw zb 0).toArray 35)).drew = x := ⟨_, rfl⟩
        rw [hx44] at hS44 hb44_7
        simp only [hx44]
        clear hx44
        refine wpAnyH_ready (rs := [2, 6]) (by kernel_rfl) (by simp) ?_
        refine AllReadyH.cons (o := { dst := some 25, op := Op.call { callee := Callee.value (Operand.func 14), args := #[Operand.tmp 23, Operand.tmp 24], argTypes := #[35, 9] }, type := 35, pos := "law.go:76", after := #[{ on := 0, ground := Ground.data }, { on := 1, ground := Ground.data }], guard := none }) rfl (fun K hK => ?_) ?_
        · go_simp
          refine (HWb.out _ hS44).mono ?_
          rintro e x45 ⟨rfl, hq45⟩
          have hS45 : Below (G + 1) wb x45 := hS44.trans (hq45.mono (Nat.le_trans hsz hS44.size))
          have hb45_7 := hb44_7.go hq45 hb44_7.lt
          go_wp2_with fail
          refine hK.out _ _ hS45 (fun _ => ?_)
          clear hK K
          try simp only [Act.put, List.setIfInBounds_toArray, List.set_cons_zero, List.set_cons_succ]
          refine wpAnyH_ready (rs := [5, 6]) (by kernel_rfl) (by simp) ?_
          refine AllReadyH.cons (o := { dst := some 28, op := Op.call { callee := Callee.value (Operand.func 14), args := #[Operand.tmp 26, Operand.tmp 27], argTypes := #[35, 9] }, type := 35, pos := "law.go:76", after := #[{ on := 3, ground := Ground.data }, { on := 4, ground := Ground.data }, { on := 2, ground := Ground.chain }], guard := none }) rfl (fun K hK => ?_) ?_
          · go_simp
            refine (HWc.out _ hS45).mono ?_
            rintro e x46 ⟨rfl, hq46⟩
            have hS46 : Below (G + 1) wb x46 := hS45.trans (hq46.mono (Nat.le_trans hsz hS45.size))
            have hb46_7 := hb45_7.go hq46 hb45_7.lt
            go_wp2_with fail
            refine hK.out _ _ hS46 (fun _ => ?_)
            clear hK K
            try simp only [Act.put, List.setIfInBounds_toArray, List.set_cons_zero, List.set_cons_succ]
            refine wpAnyH_ready (rs := [6]) (by kernel_rfl) (by simp) ?_
            refine AllReadyH.cons (o := { dst := some 8, op := Op.alloc 35, type := 0, pos := "law.go:76", after := #[], guard := none }) rfl (fun K hK => ?_) ?_
            · go_simp
              have hS47 : Below (G + 1) wb (World.alloc x46 (.cells (hv zw zb 0).toArray 35)) := hS46.alloc (Nat.le_trans hsz hS46.size) _
              have hb47_6 := Blk.new x46 35 (hv zw zb 0)
              have hg6 : G + 1 ≤ x46.heap.size := Nat.le_trans hsz hS46.size
              have hne := Nat.ne_of_lt hb46_7.lt
              have hb47_7 := hb46_7.old (.cells (hv zw zb 0).toArray 35)
              refine hK.out _ _ hS47 (fun _ => ?_)
              clear hK K
              try simp only [Act.put, List.setIfInBounds_toArray, List.set_cons_zero, List.set_cons_succ]
              obtain ⟨x47, hx47⟩ : ∃ x, World.alloc x46 (.cells (hv zw zb 0).toArray 35) = x := ⟨_, rfl⟩
              rw [hx47] at hS47 hb47_7 hb47_6
              simp only [hx47]
              clear hx47
              refine wpAnyH_ready (rs := [8]) (by kernel_rfl) (by simp) ?_
              refine AllReadyH.cons (o := { dst := none, op := Op.store 35 (Operand.tmp 8) (Operand.tmp 25), type := 0, pos := "law.go:76", after := #[{ on := 6, ground := Ground.data }, { on := 2, ground := Ground.data }, { on := 5, ground := Ground.chain }, { on := 0, ground := Ground.phase }, { on := 1, ground := Ground.phase }, { on := 2, ground := Ground.phase }, { on := 3, ground := Ground.textOnly Departure.lateStores }, { on := 4, ground := Ground.textOnly Departure.lateStores }, { on := 5, ground := Ground.textOnly Departure.lateStoresUnsure }, { on := 6, ground := Ground.phase }, { on := 7, ground := Ground.phase }], guard := none }) rfl (fun K hK => ?_) ?_
              · rw [if_pos (by rfl)]
                refine wp_store_row 35 _ _ rfl _ _ rfl rfl 35 _ hb47_6 (i73 _ _ _) (by unfold HV; simp [hv_len]) (arr_all (hv_one _ _ _)) ?_
                have hS48 := below_row hS47 hg6 (HV (a.data.toList ++ b.data.toList)).toArray
                have hb48_6 := hb47_6.row (HV (a.data.toList ++ b.data.toList))
                have hb48_7 := hb47_7.rowFar (m := x46.heap.size) (by omega) (HV (a.data.toList ++ b.data.toList)).toArray
                refine hK.out _ _ hS48 (fun _ => ?_)
                clear hK K
                try simp only [Act.put, List.setIfInBounds_toArray, List.set_cons_zero, List.set_cons_succ]
                refine wpAnyH_ready (rs := [9]) (by kernel_rfl) (by simp) ?_
                refine AllReadyH.cons (o := { dst := none, op := Op.store 35 (Operand.tmp 9) (Operand.tmp 28), type := 0, pos := "law.go:76", after := #[{ on := 7, ground := Ground.data }, { on := 5, ground := Ground.data }, { on := 8, ground := Ground.chain }, { on := 0, ground := Ground.phase }, { on := 1, ground := Ground.phase }, { on := 2, ground := Ground.phase }, { on := 3, ground := Ground.phase }, { on := 4, ground := Ground.phase }, { on := 5, ground := Ground.phase }, { on := 6, ground := Ground.phase }, { on := 7, ground := Ground.phase }, { on := 8, ground := Ground.phase }], guard := none }) rfl (fun K hK => ?_) ?_
                · rw [if_pos (by rfl)]
                  refine wp_store_row 35 _ _ rfl _ _ rfl rfl 35 _ hb48_7 (i73 _ _ _) (by unfold HV; simp [hv_len]) (arr_all (hv_one _ _ _)) ?_
                  have hS49 := below_row hS48 hg7 (HV (a.data.toList ++ c.data.toList)).toArray
                  have hb49_7 := hb48_7.row (HV (a.data.toList ++ c.data.toList))
                  have hb49_6 := hb48_6.rowFar (m := wb.heap.size) (by omega) (HV (a.data.toList ++ c.data.toList)).toArray
                  refine hK.out _ _ hS49 (fun _ => ?_)
                  clear hK K
                  try simp only [Act.put, List.setIfInBounds_toArray, List.set_cons_zero, List.set_cons_succ]
                  refine wpAnyH_done (by kernel_rfl) ?_ _
                  first | go_meet | (go_wp2_with fail; go_meet) | (go_simp; go_meet)
                  exact ⟨_, _, rfl, rfl, Lib.hid hb49_6, Lib.hid hb49_7, Lib.hid hS49⟩
                exact AllReadyH.nil
              exact AllReadyH.nil
            exact AllReadyH.nil
          refine AllReadyH.cons (o := { dst := some 8, op := Op.alloc 35, type := 0, pos := "law.go:76", after := #[], guard := none }) rfl (fun K hK => ?_) ?_
          · go_simp
            have hS50 : Below (G + 1) wb (World.alloc x45 (.cells (hv zw zb 0).toArray 35)) := hS45.alloc (Nat.le_trans hsz hS45.size) _
            have hb50_6 := Blk.new x45 35 (hv zw zb 0)
            have hg6 : G + 1 ≤ x45.heap.size := Nat.le_trans hsz hS45.size
            have hne := Nat.ne_of_lt hb45_7.lt
            have hb50_7 := hb45_7.old (.cells (hv zw zb 0).toArray 35)
            refine hK.out _ _ hS50 (fun _ => ?_)
            clear hK K
            try simp only [Act.put, List.setIfInBounds_toArray, List.set_cons_zero, List.set_cons_succ]
            obtain ⟨x50, hx50⟩ : ∃ x, World.alloc x45 (.cells (hv zw zb 0).toArray 35) = x := ⟨_, rfl⟩
            rw [hx50] at hS50 hb50_7 hb50_6
            simp only [hx50]
            clear hx50
            refine wpAnyH_ready (rs := [5]) (by kernel_rfl) (by simp) ?_
            refine AllReadyH.cons (o := { dst := some 28, op := Op.call { callee := Callee.value (Operand.func 14), args := #[Operand.tmp 26, Operand.tmp 27], argTypes := #[35, 9] }, type := 35, pos := "law.go:76", after := #[{ on := 3, ground := Ground.data }, { on := 4, ground := Ground.data }, { on := 2, ground := Ground.chain }], guard := none }) rfl (fun K hK => ?_) ?_
            · go_simp
              refine (HWc.out _ hS50).mono ?_
              rintro e x51 ⟨rfl, hq51⟩
              have hS51 : Below (G + 1) wb x51 := hS50.trans (hq51.mono (Nat.le_trans hsz hS50.size))
              have hb51_7 := hb50_7.go hq51 hb50_7.lt
              have hb51_6 := hb50_6.go hq51 hb50_6.lt
              go_wp2_with fail
              refine hK.out _ _ hS51 (fun _ => ?_)
              clear hK K
              try simp only [Act.put, List.setIfInBounds_toArray, List.set_cons_zero, List.set_cons_succ]
              refine wpAnyH_ready (rs := [8]) (by kernel_rfl) (by simp) ?_
              refine AllReadyH.cons (o := { dst := none, op := Op.store 35 (Operand.tmp 8) (Operand.tmp 25), type := 0, pos := "law.go:76", after := #[{ on := 6, ground := Ground.data }, { on := 2, ground := Ground.data }, { on := 5, ground := Ground.chain }, { on := 0, ground := Ground.phase }, { on := 1, ground := Ground.phase }, { on := 2, ground := Ground.phase }, { on := 3, ground := Ground.textOnly Departure.lateStores }, { on := 4, ground := Ground.textOnly Departure.lateStores }, { on := 5, ground := Ground.textOnly Departure.lateStoresUnsure }, { on := 6, ground := Ground.phase }, { on := 7, ground := Ground.phase }], guard := none }) rfl (fun K hK => ?_) ?_
              · rw [if_pos (by rfl)]
                refine wp_store_row 35 _ _ rfl _ _ rfl rfl 35 _ hb51_6 (i73 _ _ _) (by unfold HV; simp [hv_len]) (arr_all (hv_one _ _ _)) ?_
                have hS52 := below_row hS51 hg6 (HV (a.data.toList ++ b.data.toList)).toArray
                have hb52_6 := hb51_6.row (HV (a.data.toList ++ b.data.toList))
                have hb52_7 := hb51_7.rowFar (m := x45.heap.size) (by omega) (HV (a.data.toList ++ b.data.toList)).toArray
                refine hK.out _ _ hS52 (fun _ => ?_)
                clear hK K
                try simp only [Act.put, List.setIfInBounds_toArray, List.set_cons_zero, List.set_cons_succ]
                refine wpAnyH_ready (rs := [9]) (by kernel_rfl) (by simp) ?_
                refine AllReadyH.cons (o := { dst := none, op := Op.store 35 (Operand.tmp 9) (Operand.tmp 28), type := 0, pos := "law.go:76", after := #[{ on := 7, ground := Ground.data }, { on := 5, ground := Ground.data }, { on := 8, ground := Ground.chain }, { on := 0, ground := Ground.phase }, { on := 1, ground := Ground.phase }, { on := 2, ground := Ground.phase }, { on := 3, ground := Ground.phase }, { on := 4, ground := Ground.phase }, { on := 5, ground := Ground.phase }, { on := 6, ground := Ground.phase }, { on := 7, ground := Ground.phase }, { on := 8, ground := Ground.phase }], guard := none }) rfl (fun K hK => ?_) ?_
                · rw [if_pos (by rfl)]
                  refine wp_store_row 35 _ _ rfl _ _ rfl rfl 35 _ hb52_7 (i73 _ _ _) (by unfold HV; simp [hv_len]) (arr_all (hv_one _ _ _)) ?_
                  have hS53 := below_row hS52 hg7 (HV (a.data.toList ++ c.data.toList)).toArray
                  have hb53_7 := hb52_7.row (HV (a.data.toList ++ c.data.toList))
                  have hb53_6 := hb52_6.rowFar (m := wb.heap.size) (by omega) (HV (a.data.toList ++ c.data.toList)).toArray
                  refine hK.out _ _ hS53 (fun _ => ?_)
                  clear hK K
                  try simp only [Act.put, List.setIfInBounds_toArray, List.set_cons_zero, List.set_cons_succ]
                  refine wpAnyH_done (by kernel_rfl) ?_ _
                  first | go_meet | (go_wp2_with fail; go_meet) | (go_simp; go_meet)
                  exact ⟨_, _, rfl, rfl, Lib.hid hb53_6, Lib.hid hb53_7, Lib.hid hS53⟩
                exact AllReadyH.nil
              exact AllReadyH.nil
            exact AllReadyH.nil
          exact AllReadyH.nil
        refine AllReadyH.cons (o := { dst := some 8, op := Op.alloc 35, type := 0, pos := "law.go:76", after := #[], guard := none }) rfl (fun K hK => ?_) ?_
        · go_simp
          have hS54 : Below (G + 1) wb (World.alloc x44 (.cells (hv zw zb 0).toArray 35)) := hS44.alloc (Nat.le_trans hsz hS44.size) _
          have hb54_6 := Blk.new x44 35 (hv zw zb 0)
          have hg6 : G + 1 ≤ x44.heap.size := Nat.le_trans hsz hS44.size
          have hne := Nat.ne_of_lt hb44_7.lt
          have hb54_7 := hb44_7.old (.cells (hv zw zb 0).toArray 35)
          refine hK.out _ _ hS54 (fun _ => ?_)
          clear hK K
          try simp only [Act.put, List.setIfInBounds_toArray, List.set_cons_zero, List.set_cons_succ]
          obtain ⟨x54, hx54⟩ : ∃ x, World.alloc x44 (.cells (hv zw zb 0).toArray 35) = x := ⟨_, rfl⟩
          rw [hx54] at hS54 hb54_7 hb54_6
          simp only [hx54]
          clear hx54
          refine wpAnyH_ready (rs := [2]) (by kernel_rfl) (by simp) ?_
          refine AllReadyH.cons (o := { dst := some 25, op := Op.call { callee := Callee.value (Operand.func 14), args := #[Operand.tmp 23, Operand.tmp 24], argTypes := #[35, 9] }, type := 35, pos := "law.go:76", after := #[{ on := 0, ground := Ground.data }, { on := 1, ground := Ground.data }], guard := none }) rfl (fun K hK => ?_) ?_
          · go_simp
            refine (HWb.out _ hS54).mono ?_
            rintro e x55 ⟨rfl, hq55⟩
            have hS55 : Below (G + 1) wb x55 := hS54.trans (hq55.mono (Nat.le_trans hsz hS54.size))
            have hb55_7 := hb54_7.go hq55 hb54_7.lt
            have hb55_6 := hb54_6.go hq55 hb54_6.lt
            go_wp2_with fail
            refine hK.out _ _ hS55 (fun _ => ?_)
            clear hK K
            try simp only [Act.put, List.setIfInBounds_toArray, List.set_cons_zero, List.set_cons_succ]
            refine wpAnyH_ready (rs := [5]) (by kernel_rfl) (by simp) ?_
            refine AllReadyH.cons (o := { dst := some 28, op := Op.call { callee := Callee.value (Operand.func 14), args := #[Operand.tmp 26, Operand.tmp 27], argTypes := #[35, 9] }, type := 35, pos := "law.go:76", after := #[{ on := 3, ground := Ground.data }, { on := 4, ground := Ground.data }, { on := 2, ground := Ground.chain }], guard := none }) rfl (fun K hK => ?_) ?_
            · go_simp
              refine (HWc.out _ hS55).mono ?_
              rintro e x56 ⟨rfl, hq56⟩
              have hS56 : Below (G + 1) wb x56 := hS55.trans (hq56.mono (Nat.le_trans hsz hS55.size))
              have hb56_7 := hb55_7.go hq56 hb55_7.lt
              have hb56_6 := hb55_6.go hq56 hb55_6.lt
              go_wp2_with fail
              refine hK.out _ _ hS56 (fun _ => ?_)
              clear hK K
              try simp only [Act.put, List.setIfInBounds_toArray, List.set_cons_zero, List.set_cons_succ]
              refine wpAnyH_ready (rs := [8]) (by kernel_rfl) (by simp) ?_
              refine AllReadyH.cons (o := { dst := none, op := Op.store 35 (Operand.tmp 8) (Operand.tmp 25), type := 0, pos := "law.go:76", after := #[{ on := 6, ground := Ground.data }, { on := 2, ground := Ground.data }, { on := 5, ground := Ground.chain }, { on := 0, ground := Ground.phase }, { on := 1, ground := Ground.phase }, { on := 2, ground := Ground.phase }, { on := 3, ground := Ground.textOnly Departure.lateStores }, { on := 4, ground := Ground.textOnly Departure.lateStores }, { on := 5, ground := Ground.textOnly Departure.lateStoresUnsure }, { on := 6, ground := Ground.phase }, { on := 7, ground := Ground.phase }], guard := none }) rfl (fun K hK => ?_) ?_
              · rw [if_pos (by rfl)]
                refine wp_store_row 35 _ _ rfl _ _ rfl rfl 35 _ hb56_6 (i73 _ _ _) (by unfold HV; simp [hv_len]) (arr_all (hv_one _ _ _)) ?_
                have hS57 := below_row hS56 hg6 (HV (a.data.toList ++ b.data.toList)).toArray
                have hb57_6 := hb56_6.row (HV (a.data.toList ++ b.data.toList))
                have hb57_7 := hb56_7.rowFar (m := x44.heap.size) (by omega) (HV (a.data.toList ++ b.data.toList)).toArray
                refine hK.out _ _ hS57 (fun _ => ?_)
                clear hK K
                try simp only [Act.put, List.setIfInBounds_toArray, List.set_cons_zero, List.set_cons_succ]
                refine wpAnyH_ready (rs := [9]) (by kernel_rfl) (by simp) ?_
                refine AllReadyH.cons (o := { dst := none, op := Op.store 35 (Operand.tmp 9) (Operand.tmp 28), type := 0, pos := "law.go:76", after := #[{ on := 7, ground := Ground.data }, { on := 5, ground := Ground.data }, { on := 8, ground := Ground.chain }, { on := 0, ground := Ground.phase }, { on := 1, ground := Ground.phase }, { on := 2, ground := Ground.phase }, { on := 3, ground := Ground.phase }, { on := 4, ground := Ground.phase }, { on := 5, ground := Ground.phase }, { on := 6, ground := Ground.phase }, { on := 7, ground := Ground.phase }, { on := 8, ground := Ground.phase }], guard := none }) rfl (fun K hK => ?_) ?_
                · rw [if_pos (by rfl)]
                  refine wp_store_row 35 _ _ rfl _ _ rfl rfl 35 _ hb57_7 (i73 _ _ _) (by unfold HV; simp [hv_len]) (arr_all (hv_one _ _ _)) ?_
                  have hS58 := below_row hS57 hg7 (HV (a.data.toList ++ c.data.toList)).toArray
                  have hb58_7 := hb57_7.row (HV (a.data.toList ++ c.data.toList))
                  have hb58_6 := hb57_6.rowFar (m := wb.heap.size) (by omega) (HV (a.data.toList ++ c.data.toList)).toArray
                  refine hK.out _ _ hS58 (fun _ => ?_)
                  clear hK K
                  try simp only [Act.put, List.setIfInBounds_toArray, List.set_cons_zero, List.set_cons_succ]
                  refine wpAnyH_done (by kernel_rfl) ?_ _
                  first | go_meet | (go_wp2_with fail; go_meet) | (go_simp; go_meet)
                  exact ⟨_, _, rfl, rfl, Lib.hid hb58_6, Lib.hid hb58_7, Lib.hid hS58⟩
                exact AllReadyH.nil
              exact AllReadyH.nil
            exact AllReadyH.nil
          exact AllReadyH.nil
        exact AllReadyH.nil
      exact AllReadyH.nil
      -- END REGION
    case rest =>
      obtain ⟨g8, g9, rfl, rfl, hB8, hB9, hS⟩ := hcut
      have hGl : Hid (G < wc.heap.size) := by show _ < _; have := hS.out.size; omega
      have hwc : Hid (Below w.heap.size w wc) := hAb.out.trans (hS.out.mono (by omega))
      have hTc : Tabs wc := hT.go hwc.out
      have hB7 : Hid (Blk wc G 35 (HV a.data.toList)) := hA2.out.go hS.out (Nat.lt_succ_self G)
      have H8 := Lib.hid (fun W (h : Below wc.heap.size wc W) => hB8.out.go h hB8.out.lt)
      have H9 := Lib.hid (fun W (h : Below wc.heap.size wc W) => hB9.out.go h hB9.out.lt)
      have H7 := Lib.hid (fun W (h : Below wc.heap.size wc W) => hB7.out.go h hB7.out.lt)
      have lab : (a.data.toList ++ b.data.toList).length ≤ 10000 := by rw [List.length_append, ← Lib.size_eq, ← Lib.size_eq]; omega
      have lac : (a.data.toList ++ c.data.toList).length ≤ 10000 := by rw [List.length_append, ← Lib.size_eq, ← Lib.size_eq]; omega
      have la : a.data.toList.length ≤ 10000 := by rw [← Lib.size_eq]; omega
      have M8 := Lib.hid (fun W (h : Below wc.heap.size wc W) => sumH_at (a.data.toList ++ b.data.toList) W wc hTc h lab)
      have M9 := Lib.hid (fun W (h : Below wc.heap.size wc W) => sumH_at (a.data.toList ++ c.data.toList) W wc hTc h lac)
      have M7 := Lib.hid (fun W (h : Below wc.heap.size wc W) => sumH_at a.data.toList W wc hTc h la)
      have F8 := Lib.hid (fun W (h : Below wc.heap.size wc W) => sum_two a b W wc hTc h (by omega))
      have F9 := Lib.hid (fun W (h : Below wc.heap.size wc W) => sum_two a c W wc hTc h (by omega))
      have F7 := Lib.hid (fun W (h : Below wc.heap.size wc W) => sum_one a W wc hTc h (by omega))
      have HA2 := Lib.hid (fun W (h : Below wc.heap.size wc W) => awake_at W wc hTc h)
      have i8 : Hid ((Tryd.prog.info? 35).map (·.size) = some (HV (a.data.toList ++ b.data.toList)).toArray.size) := i73 _ _ _
      have i9 : Hid ((Tryd.prog.info? 35).map (·.size) = some (HV (a.data.toList ++ c.data.toList)).toArray.size) := i73 _ _ _
      have i7 : Hid ((Tryd.prog.info? 35).map (·.size) = some (HV a.data.toList).toArray.size) := i73 _ _ _
      have p0 := Lib.hid (Below.refl wc.heap.size wc)
      clear lab lac la hTc hB8 hB9 hB7 HWb HWc hrg hT HA hA2 hAb hsz
      generalize mkS (sumF (a.data.toList ++ b.data.toList)) = r8 at *
      generalize mkS (sumF (a.data.toList ++ c.data.toList)) = r9 at *
      generalize mkS (sumF a.data.toList) = r7 at *
      generalize HV (a.data.toList ++ b.data.toList) = v8 at *
      generalize HV (a.data.toList ++ c.data.toList) = v9 at *
      go_wp2_with fail
      refine (HA2.out _ p0.out).mono ?_
      rintro e y1 ⟨rfl, q1⟩
      have p1 := Lib.hid q1
      clear q1
      go_wp2_with (refine load_rowG (by rfl) 35 (.tmp 8) rfl g8 rfl 35 _ _ _ (H8.out _ p1.out) Tryd.underlying35 rfl i8.out ?_)
      refine (M8.out _ p1.out).mono ?_
      rintro e y2 ⟨rfl, q2⟩
      have p2 := Lib.hid q2
      clear q2
      go_wp2_with fail
      refine (F8.out _ p2.out).mono ?_
      rintro e y3 ⟨rfl, q3⟩
      have p3 := Lib.hid q3
      clear q3
      go_wp2_with (refine load_rowG (by rfl) 35 (.tmp 9) rfl g9 rfl 35 _ _ _ (H9.out _ p3.out) Tryd.underlying35 rfl i9.out ?_)
      refine (M9.out _ p3.out).mono ?_
      rintro e y4 ⟨rfl, q4⟩
      have p4 := Lib.hid q4
      clear q4
      go_wp2_with fail
      refine (F9.out _ p4.out).mono ?_
      rintro e y5 ⟨rfl, q5⟩
      have p5 := Lib.hid q5
      clear q5
      go_wp2_with (refine load_rowG (by rfl) 35 (.tmp 7) rfl G rfl 35 _ _ _ (H7.out _ p5.out) Tryd.underlying35 rfl i7.out ?_)
      refine (M7.out _ p5.out).mono ?_
      rintro e y6 ⟨rfl, q6⟩
      have p6 := Lib.hid q6
      clear q6
      go_wp2_with fail
      refine (F7.out _ p6.out).mono ?_
      rintro e y7 ⟨rfl, q7⟩
      have p7 := Lib.hid q7
      clear q7
      go_wp2
      go_ret
      exact ⟨rfl, hwc.out.trans (p7.out.mono hwc.out.size)⟩
  · have hlI : (1000 : Int) < (a.size : Int) + (b.size : Int) + (c.size : Int) := by omega
    clear hT
    go_enter Tryd.func7, Tryd.ntmps7
    go_wp2_with fail
    refine (HA.out _ (Below.refl _ _)).mono ?_
    rintro e w1 ⟨rfl, hb1⟩
    have hb1h := Lib.hid hb1
    clear hb1
    go_wp2
    go_ret
    exact ⟨rfl, hb1h.out⟩
end Go.Proofs.YtnngadbmfdfmfaaDoor
