/-
  Helper: the walk of Sum.
-/
import Derived.Test.YtnngadbmfdfmfaaDoorDgHex
import Derived.Deep.RegionLaw
import Derived.Deep.RegionHeld3
import Derived.Deep.Cut
import Derived.Deep.DeepCutAuto
import Derived.BigRegion
namespace Go.Proofs.YtnngadbmfdfmfaaDoor
open Go.RowKit
set_option linter.unusedVariables false
set_option linter.unusedSimpArgs false

set_option maxRecDepth 100000 in
set_option maxHeartbeats 4000000 in
theorem sumH_any (L : List UInt8) (w : World) (hT : Tabs w) (hl : L.length ≤ 10000) :
    Calls Tryd.prog 15 #[.agg (HV L).toArray] w (TxtP (sumF L) w) := by
  have hz := zero73
  obtain ⟨N, hN⟩ : ∃ N, w.heap.size = N := ⟨_, rfl⟩
  have hB0 : Hid (Blk (w.alloc (.cells (HV L).toArray 35)) N 35 (HV L)) := by rw [← hN]; exact Blk.new w _ _
  have hbe0 : Hid (Below N w (w.alloc (.cells (HV L).toArray 35))) := (Below.refl N w).alloc (by omega) _
  have hsz : N + 1 ≤ (w.alloc (.cells (HV L).toArray 35)).heap.size := by simp [hN]
  have hTb : Hid (Tabs (w.alloc (.cells (HV L).toArray 35))) := hT.below hbe0.out (by have := hT.1; omega)
  go_enter Tryd.func15, Tryd.ntmps15
  go_wp2_with fail
  generalize w.alloc (.cells (HV L).toArray 35) = wb at *
  have hT2 := hT.1
  go_upto_region 2 with fail
  go_cut [3] (fun sv wx => ∃ g, sv = .pointer (some ⟨g, 0, none⟩) ∧ Hid (Blk wx g 35 (HV (L ++ padB L.length))) ∧ Hid (Below N w wx))
  case first =>
    have HPd : Hid (∀ W : World, Calls Tryd.prog 23 #[.int .u64 (L.length : Int)] W (TxtP (padB L.length) W)) := fun W => padding_any L.length W (by omega)
    have HTB : Hid (∀ W, Below (N + 1) wb W → Tabs W) := fun W h => hTb.out.below h (by omega)
    have HWr : Hid (∀ W : World, Tabs W → Calls Tryd.prog 14 #[.agg (HV L).toArray, .string ⟨(padB L.length).toArray⟩] W (HP (L ++ padB L.length) W)) := fun W h => by
      have h9 := write_any L ⟨(padB L.length).toArray⟩ W h (by show L.length + (padB L.length).toArray.size ≤ _; simp [padB_len]; have := zn_lt L.length; omega)
      simpa using h9
    have hrg : Hid (∀ W, Below (N + 1) wb W → W.rangeAt N 0 (HV L)) := fun W h => (hB0.out.go h (Nat.lt_succ_self N)).range 0 (HV L) (fun j v hj => by rw [Nat.zero_add]; exact hj)
    have hc72 : Hid (∀ W, Below (N + 1) wb W → W.cell? ⟨N, 72, none⟩ = some (.int .u64 (L.length : Int))) := fun W h => (hB0.out.go h (Nat.lt_succ_self N)).cell 72 _ (hv_n _ _ _)
    have h73 : Hid ((Tryd.prog.info? 35).map (·.size) = some (HV (L ++ padB L.length)).toArray.size) := i73 _ _ _
    have hone : Hid ((HV (L ++ padB L.length)).toArray.all (·.oneCell') = true) := arr_all (hv_one _ _ _)
    have hzz : Hid ((hv zw zb 0).toArray.size = (HV (L ++ padB L.length)).toArray.size) := by show _ = _; unfold HV; simp [hv_len]
    -- REGION
    refine wp_region_held_drew (S := fun W => Below (N + 1) wb W) (by kernel_rfl) (Below.refl _ _).drew (fun hS0 => ?_)
    refine' wpAnyH_take (i := 0) (oi := { dst := some 8, op := Op.load 35 (Operand.tmp 1), type := 35, pos := "digest.go:59", after := #[], guard := none }) (v := .agg (HV L).toArray) rfl (by kernel_rfl) (by kernel_rfl) (by kernel_rfl) (fun _ _ _ h => h) (yieldsIf_load_mid (by rfl) _ _ rfl N 0 rfl (HV L) _ (fun W h => hrg.out W h) Tryd.underlying35 rfl (by rw [i73]; rfl)) hS0 ?_
    simp only [Act.put, List.setIfInBounds_toArray, List.set_cons_zero, List.set_cons_succ]
    refine wpAnyH_take (i := 1) (oi := { dst := some 9, op := Op.fieldAddr 35 (Operand.tmp 1) 2, type := 0, pos := "digest.go:59", after := #[], guard := none }) (v := .pointer (some ⟨N, 72, none⟩)) rfl (by kernel_rfl) (by kernel_rfl) (by kernel_rfl) (fun _ _ _ h => h) (Or.inl ⟨by rfl, fun W hW => by go_simp⟩) hS0 ?_
    simp only [Act.put, List.setIfInBounds_toArray, List.set_cons_zero, List.set_cons_succ]
    refine wpAnyH_take (i := 2) (oi := { dst := some 10, op := Op.load 33 (Operand.tmp 9), type := 33, pos := "digest.go:59", after := #[{ on := 1, ground := Ground.data }], guard := none }) (v := .int .u64 (L.length : Int)) rfl (by kernel_rfl) (by kernel_rfl) (by kernel_rfl) (fun _ _ _ h => h) (Or.inl ⟨by rfl, fun W hW => by have := hc72.out W hW; go_simp⟩) hS0 ?_
    simp only [Act.put, List.setIfInBounds_toArray, List.set_cons_zero, List.set_cons_succ]
    refine wpAnyH_ready (rs := [3, 5]) (by kernel_rfl) (by simp) ?_
    refine AllReadyH.cons (o := { dst := some 11, op := Op.call { callee := Callee.value (Operand.func 23), args := #[Operand.tmp 10], argTypes := #[33] }, type := 9, pos := "digest.go:59", after := #[{ on := 2, ground := Ground.data }], guard := none }) rfl (fun K hK => ?_) ?_
    · go_simp
      refine (HPd.out _).mono ?_
      rintro e x1 ⟨rfl, hq1⟩
      have hS1 : Below (N + 1) wb x1 := hS0.trans (hq1.mono (Nat.le_trans hsz hS0.size))
      go_wp2_with fail
      refine hK.out _ _ hS1 (fun _ => ?_)
      clear hK K
      try simp only [Act.put, List.setIfInBounds_toArray, List.set_cons_zero, List.set_cons_succ]
      refine wpAnyH_ready (rs := [4, 5]) (by kernel_rfl) (by simp) ?_
      refine AllReadyH.cons (o := { dst := some 12, op := Op.call { callee := Callee.value (Operand.func 14), args := #[Operand.tmp 8, Operand.tmp 11], argTypes := #[35, 9] }, type := 35, pos := "digest.go:59", after := #[{ on := 0, ground := Ground.data }, { on := 3, ground := Ground.data }, { on := 3, ground := Ground.chain }], guard := none }) rfl (fun K hK => ?_) ?_
      · go_simp
        refine (HWr.out _ (HTB.out _ hS1)).mono ?_
        rintro e x2 ⟨rfl, hq2⟩
        have hS2 : Below (N + 1) wb x2 := hS1.trans (hq2.mono (Nat.le_trans hsz hS1.size))
        go_wp2_with fail
        refine hK.out _ _ hS2 (fun _ => ?_)
        clear hK K
        try simp only [Act.put, List.setIfInBounds_toArray, List.set_cons_zero, List.set_cons_succ]
        refine wpAnyH_ready (rs := [5]) (by kernel_rfl) (by simp) ?_
        refine AllReadyH.cons (o := { dst := some 3, op := Op.alloc 35, type := 0, pos := "digest.go:59", after := #[], guard := none }) rfl (fun K hK => ?_) ?_
        · go_simp
          have hS3 : Below (N + 1) wb (World.alloc (x2) (.cells (hv zw zb 0).toArray 35)) := hS2.alloc (Nat.le_trans hsz hS2.size) _
          have hb3 := Blk.new (x2) 35 (hv zw zb 0)
          have hg : N + 1 ≤ (x2).heap.size := Nat.le_trans hsz hS2.size
          refine hK.out _ _ hS3 (fun _ => ?_)
          clear hK K
          try simp only [Act.put, List.setIfInBounds_toArray, List.set_cons_zero, List.set_cons_succ]
          have hA3 : ∃ x, World.alloc (x2) (.cells (hv zw zb 0).toArray 35) = x := ⟨_, rfl⟩
          obtain ⟨x3, hx3⟩ := hA3
          rw [hx3] at hS3 hb3
          simp only [hx3]
          refine wpAnyH_ready (rs := [6]) (by kernel_rfl) (by simp) ?_
          refine AllReadyH.cons (o := { dst := none, op := Op.store 35 (Operand.tmp 3) (Operand.tmp 12), type := 0, pos := "digest.go:59", after := #[{ on := 5, ground := Ground.data }, { on := 4, ground := Ground.data }, { on := 4, ground := Ground.chain }, { on := 0, ground := Ground.phase }, { on := 1, ground := Ground.phase }, { on := 2, ground := Ground.phase }, { on := 3, ground := Ground.phase }, { on := 4, ground := Ground.phase }, { on := 5, ground := Ground.phase }], guard := none }) rfl (fun K hK => ?_) ?_
          · rw [if_pos (by rfl)]
            refine wp_store_row 35 _ _ rfl _ _ rfl rfl 35 _ hb3 h73.out hzz.out hone.out ?_
            have hS4 := below_row hS3 hg (HV (L ++ padB L.length)).toArray
            have hR := Lib.hid (hb3.row (HV (L ++ padB L.length)))
            have hE := Lib.hid (hbe0.out.trans (hS4.mono (Nat.le_succ N)))
            refine hK.out _ _ hS4 (fun _ => ?_)
            clear hK K
            try simp only [Act.put, List.setIfInBounds_toArray, List.set_cons_zero, List.set_cons_succ]
            refine wpAnyH_done (by kernel_rfl) ?_ _
            first | go_meet | (go_wp2_with fail; go_meet) | (go_simp; go_meet)
            exact ⟨_, rfl, hR, hE⟩
          exact AllReadyH.nil
        exact AllReadyH.nil
      refine AllReadyH.cons (o := { dst := some 3, op := Op.alloc 35, type := 0, pos := "digest.go:59", after := #[], guard := none }) rfl (fun K hK => ?_) ?_
      · go_simp
        have hS5 : Below (N + 1) wb (World.alloc (x1) (.cells (hv zw zb 0).toArray 35)) := hS1.alloc (Nat.le_trans hsz hS1.size) _
        have hb5 := Blk.new (x1) 35 (hv zw zb 0)
        have hg : N + 1 ≤ (x1).heap.size := Nat.le_trans hsz hS1.size
        refine hK.out _ _ hS5 (fun _ => ?_)
        clear hK K
        try simp only [Act.put, List.setIfInBounds_toArray, List.set_cons_zero, List.set_cons_succ]
        have hA5 : ∃ x, World.alloc (x1) (.cells (hv zw zb 0).toArray 35) = x := ⟨_, rfl⟩
        obtain ⟨x5, hx5⟩ := hA5
        rw [hx5] at hS5 hb5
        simp only [hx5]
        refine wpAnyH_ready (rs := [4]) (by kernel_rfl) (by simp) ?_
        refine AllReadyH.cons (o := { dst := some 12, op := Op.call { callee := Callee.value (Operand.func 14), args := #[Operand.tmp 8, Operand.tmp 11], argTypes := #[35, 9] }, type := 35, pos := "digest.go:59", after := #[{ on := 0, ground := Ground.data }, { on := 3, ground := Ground.data }, { on := 3, ground := Ground.chain }], guard := none }) rfl (fun K hK => ?_) ?_
        · go_simp
          refine (HWr.out _ (HTB.out _ hS5)).mono ?_
          rintro e x6 ⟨rfl, hq6⟩
          have hS6 : Below (N + 1) wb x6 := hS5.trans (hq6.mono (Nat.le_trans hsz hS5.size))
          have hb6 := hb5.go hq6 hb5.lt
          go_wp2_with fail
          refine hK.out _ _ hS6 (fun _ => ?_)
          clear hK K
          try simp only [Act.put, List.setIfInBounds_toArray, List.set_cons_zero, List.set_cons_succ]
          refine wpAnyH_ready (rs := [6]) (by kernel_rfl) (by simp) ?_
          refine AllReadyH.cons (o := { dst := none, op := Op.store 35 (Operand.tmp 3) (Operand.tmp 12), type := 0, pos := "digest.go:59", after := #[{ on := 5, ground := Ground.data }, { on := 4, ground := Ground.data }, { on := 4, ground := Ground.chain }, { on := 0, ground := Ground.phase }, { on := 1, ground := Ground.phase }, { on := 2, ground := Ground.phase }, { on := 3, ground := Ground.phase }, { on := 4, ground := Ground.phase }, { on := 5, ground := Ground.phase }], guard := none }) rfl (fun K hK => ?_) ?_
          · rw [if_pos (by rfl)]
            refine wp_store_row 35 _ _ rfl _ _ rfl rfl 35 _ hb6 h73.out hzz.out hone.out ?_
            have hS7 := below_row hS6 hg (HV (L ++ padB L.length)).toArray
            have hR := Lib.hid (hb6.row (HV (L ++ padB L.length)))
            have hE := Lib.hid (hbe0.out.trans (hS7.mono (Nat.le_succ N)))
            refine hK.out _ _ hS7 (fun _ => ?_)
            clear hK K
            try simp only [Act.put, List.setIfInBounds_toArray, List.set_cons_zero, List.set_cons_succ]
            refine wpAnyH_done (by kernel_rfl) ?_ _
            first | go_meet | (go_wp2_with fail; go_meet) | (go_simp; go_meet)
            exact ⟨_, rfl, hR, hE⟩
          exact AllReadyH.nil
        exact AllReadyH.nil
      exact AllReadyH.nil
    refine AllReadyH.cons (o := { dst := some 3, op := Op.alloc 35, type := 0, pos := "digest.go:59", after := #[], guard := none }) rfl (fun K hK => ?_) ?_
    · go_simp
      have hS8 : Below (N + 1) wb (World.alloc wb (.cells (hv zw zb 0).toArray 35)).drew := ((Below.refl (N + 1) wb).alloc hsz _).drew
      have hb8 : Blk (World.alloc wb (.cells (hv zw zb 0).toArray 35)).drew wb.heap.size 35 (hv zw zb 0) := Blk.new wb 35 (hv zw zb 0)
      have hg : N + 1 ≤ wb.heap.size := hsz
      refine hK.out _ _ hS8 (fun _ => ?_)
      clear hK K
      try simp only [Act.put, List.setIfInBounds_toArray, List.set_cons_zero, List.set_cons_succ]
      have hA8 : ∃ x, (World.alloc wb (.cells (hv zw zb 0).toArray 35)).drew = x := ⟨_, rfl⟩
      obtain ⟨x8, hx8⟩ := hA8
      rw [hx8] at hS8 hb8
      simp only [hx8]
      refine wpAnyH_ready (rs := [3]) (by kernel_rfl) (by simp) ?_
      refine AllReadyH.cons (o := { dst := some 11, op := Op.call { callee := Callee.value (Operand.func 23), args := #[Operand.tmp 10], argTypes := #[33] }, type := 9, pos := "digest.go:59", after := #[{ on := 2, ground := Ground.data }], guard := none }) rfl (fun K hK => ?_) ?_
      · go_simp
        refine (HPd.out _).mono ?_
        rintro e x9 ⟨rfl, hq9⟩
        have hS9 : Below (N + 1) wb x9 := hS8.trans (hq9.mono (Nat.le_trans hsz hS8.size))
        have hb9 := hb8.go hq9 hb8.lt
        go_wp2_with fail
        refine hK.out _ _ hS9 (fun _ => ?_)
        clear hK K
        try simp only [Act.put, List.setIfInBounds_toArray, List.set_cons_zero, List.set_cons_succ]
        refine wpAnyH_ready (rs := [4]) (by kernel_rfl) (by simp) ?_
        refine AllReadyH.cons (o := { dst := some 12, op := Op.call { callee := Callee.value (Operand.func 14), args := #[Operand.tmp 8, Operand.tmp 11], argTypes := #[35, 9] }, type := 35, pos := "digest.go:59", after := #[{ on := 0, ground := Ground.data }, { on := 3, ground := Ground.data }, { on := 3, ground := Ground.chain }], guard := none }) rfl (fun K hK => ?_) ?_
        · go_simp
          refine (HWr.out _ (HTB.out _ hS9)).mono ?_
          rintro e x10 ⟨rfl, hq10⟩
          have hS10 : Below (N + 1) wb x10 := hS9.trans (hq10.mono (Nat.le_trans hsz hS9.size))
          have hb10 := hb9.go hq10 hb9.lt
          go_wp2_with fail
          refine hK.out _ _ hS10 (fun _ => ?_)
          clear hK K
          try simp only [Act.put, List.setIfInBounds_toArray, List.set_cons_zero, List.set_cons_succ]
          refine wpAnyH_ready (rs := [6]) (by kernel_rfl) (by simp) ?_
          refine AllReadyH.cons (o := { dst := none, op := Op.store 35 (Operand.tmp 3) (Operand.tmp 12), type := 0, pos := "digest.go:59", after := #[{ on := 5, ground := Ground.data }, { on := 4, ground := Ground.data }, { on := 4, ground := Ground.chain }, { on := 0, ground := Ground.phase }, { on := 1, ground := Ground.phase }, { on := 2, ground := Ground.phase }, { on := 3, ground := Ground.phase }, { on := 4, ground := Ground.phase }, { on := 5, ground := Ground.phase }], guard := none }) rfl (fun K hK => ?_) ?_
          · rw [if_pos (by rfl)]
            refine wp_store_row 35 _ _ rfl _ _ rfl rfl 35 _ hb10 h73.out hzz.out hone.out ?_
            have hS11 := below_row hS10 hg (HV (L ++ padB L.length)).toArray
            have hR := Lib.hid (hb10.row (HV (L ++ padB L.length)))
            have hE := Lib.hid (hbe0.out.trans (hS11.mono (Nat.le_succ N)))
            refine hK.out _ _ hS11 (fun _ => ?_)
            clear hK K
            try simp only [Act.put, List.setIfInBounds_toArray, List.set_cons_zero, List.set_cons_succ]
            refine wpAnyH_done (by kernel_rfl) ?_ _
            first | go_meet | (go_wp2_with fail; go_meet) | (go_simp; go_meet)
            exact ⟨_, rfl, hR, hE⟩
          exact AllReadyH.nil
        exact AllReadyH.nil
      exact AllReadyH.nil
    exact AllReadyH.nil
    -- END REGION
  case rest =>
    obtain ⟨g, rfl, hBg, hBe⟩ := hcut
    have hFi : Hid (∀ w', Below N w w' → TxtP (sumF L) w (.returned (.string ⟨(sumF L).toArray⟩)) w') := fun w' h => ⟨rfl, by rw [hN]; exact h⟩
    generalize TxtP (sumF L) w = Po at *
    have hA : sumF L = hexS (wordsF (L ++ padB L.length)) 8 := rfl
    have hAh := Lib.hid hA
    obtain ⟨A, hAA⟩ : ∃ A, A = stA (L ++ padB L.length) ((L ++ padB L.length).length / 64) := ⟨_, rfl⟩
    have hcA : Hid (∀ {W : World}, Blk W g 35 (HV (L ++ padB L.length)) → ∀ i, i < 8 → W.cell? ⟨g, i, none⟩ = some (.int .u32 (((A i).toNat : Nat) : Int))) := fun {W} h i hi => by
      rw [hAA]; exact h.cell i _ (hv_w _ _ _ i hi)
    have hwF : Hid (∀ i, wordsF (L ++ padB L.length) i = fs i + A i) := fun i => by rw [hAA]; rfl
    clear hA hAA hz hB0 hTb hsz
    generalize sumF L = r at *
    generalize wordsF (L ++ padB L.length) = F at *
    generalize HV (L ++ padB L.length) = hvs at *
    have hT0 : Hid (Tabs wc) := hT.below (hBe.out) (by omega)
    obtain ⟨i0, hi, hz0, hz1, hz2⟩ := info_parts info_u8
    have i8f := Lib.hid (i8 fs)
    go_wp2_with (first | (at_make; refine make_room _ rfl _ _ 26 rfl Tryd.underlying26 _ 64 rfl rfl ?c1 ?c2 ?_))
    case c1 => rfl
    case c2 => omega
    intro w1 hown0 hb0
    have hown0h := Lib.hid hown0
    have hG : Hid (∀ W, Below wc.heap.size wc W → Blk W g 35 hvs) := fun W h => hBg.out.go h hBg.out.lt
    have hE : Hid (∀ W, Below wc.heap.size wc W → Below N w W) := fun W h => hBe.out.trans (h.mono (by have := hBe.out.size; omega))
    obtain ⟨gt0, gfr0, hT1'⟩ := (hT0.out.go hb0).2.1
    have hT1 := Lib.hid hT1'
    clear hT1'
    clear hown0 hi hz0 hz1 hz2 hBg hBe hT hT0 hbe0
    go_wp2_with (refine wpList_load_row rfl 31 (.global 0) rfl 0 rfl _ _ _ _ hT1.out Tryd.underlying31 rfl i8f.out ?_)
    clear hT1 i8f
    go_loopw [4, 15] (fun v i wr => ∃ k : Nat, k ≤ 8 ∧ i = .int .i64 k ∧ Hid (wr.ownsRow wc.heap.size 5 1 v (8 * k) (bytes (hexS F k))) ∧ Hid (Below wc.heap.size wc wr)) (fun _ i _ => 8 - (intOf i).toNat)
    case atStart => exact ⟨0, Nat.zero_le _, rfl, hown0h.out, hb0⟩
    case round =>
      obtain ⟨k, hk, rfl, hown, hbel⟩ := hrel
      by_cases hlt : k < 8
      · have hix := idx8 fs k hlt
        have hca := hcA.out (hG.out _ hbel.out) k hlt
        have hkI : (k : Int) < 8 := by omega
        have hw0 : Hid (fs k + A k = F k) := (hwF.out k).symm
        have hst : Hid (hexS F (k + 1) = hexS F k ++ hexW (F k) 8) := rfl
        generalize fs k = fk at *
        generalize A k = ak at *
        go_wp2_with fail
        rw [x_add, hw0.out]
        clear hix hca
        generalize F k = x at *
        obtain ⟨wo, rfl⟩ : ∃ wo : World, wo = wr := ⟨_, rfl⟩
        go_loopw [4, 7, 25] (fun v z i wr => ∃ j : Nat, j ≤ 8 ∧ i = .int .i64 j ∧ z = .int .u32 (((rotk x j).toNat : Nat) : Int) ∧ Hid (wr.ownsRow wc.heap.size 5 1 v (8 * k + j) (bytes (hexS F k ++ hexW x j))) ∧ Hid (Below wc.heap.size wc wr)) (fun _ _ i _ => 8 - (intOf i).toNat)
        case atStart => exact ⟨0, Nat.zero_le _, rfl, rfl, by rw [show hexW x 0 = [] from rfl, List.append_nil]; exact hown, hbel⟩
        case round =>
          obtain ⟨j, hj, rfl, rfl, hown, hbel⟩ := hrel
          by_cases hlj : j < 8
          · obtain ⟨y, hy⟩ : ∃ y, rotk x (j + 1) = y := ⟨_, rfl⟩
            have hyh := Lib.hid hy
            have hrt : Hid (∀ W : World, Calls Tryd.prog 24 #[.int .u32 (((rotk x j).toNat : Nat) : Int), .int .i64 4] W (WordP y W)) := fun W => by rw [← hy]; exact rotl_any (rotk x j) 4 4 (by decide) (by omega) W
            have hnb := rotk_nib x j hlj
            have i1 := ix_hex .u32 (nib x j) (by unfold nib; omega)
            have e1 := and15 (rotk x (j + 1))
            rw [hnb] at e1
            rw [← e1, hy] at i1
            have hsx : Hid (hexW x (j + 1) = hexW x j ++ [hx (nib x j)]) := hexW_succ x j
            have hsz := hbel.out.size
            clear hnb e1
            generalize hx (nib x j) = cd at *
            clear hy
            generalize rotk x j = z at *
            go_wp2_with fail
            refine (hrt.out _).mono ?_
            rintro e wx ⟨rfl, rfl⟩
            go_wp2_with (at_builtin; refine append_byte rfl (.tmp 29) (.tmp 33) 26 rfl Tryd.underlying26 _ wc.heap.size _ (8 * k + j) (hexS F k ++ hexW x j) cd rfl rfl hown.out wc hbel.out ?c1 ?c2 rfl ?_)
            case c1 => exact hsz
            case c2 => omega
            intro v' w3 hown3 hb3 hsp
            have hown4 : Hid (w3.ownsRow wc.heap.size 5 1 v' (8 * k + (j + 1)) (bytes (hexS F k ++ hexW x (j + 1)))) := by
              rw [hsx.out]; exact hown3
            have hb3h := Lib.hid hb3
            clear hsp i1 hown3 hb3 hrt
            go_wp2
            go_roundw
            case rel => exact ⟨j + 1, by omega, by go_num, by rw [hyh.out], hown4, hb3h⟩
            case measure => simp [intOf]; omega
          · obtain rfl : j = 8 := by omega
            go_wp2
            go_roundw
            case rel => exact ⟨k + 1, by omega, by go_num, by rw [hst.out]; exact hown, hbel⟩
            case measure => simp [intOf]; omega
      · obtain rfl : k = 8 := by omega
        rw [← hAh.out] at hown
        have hrl : r.length = 64 := by rw [hAh.out, hexS_len]
        obtain ⟨a2, cap2, rfl, hq1, hq2, hrb⟩ := rb_of_row hown.out
        have hcv := conv_rb hrb (8 * 8) hrl cap2
        have hfin := Lib.hid (hFi.out _ (hE.out _ hbel.out))
        clear hown hrb hq1 hq2
        go_wp2
        exact hfin.out
end Go.Proofs.YtnngadbmfdfmfaaDoor
