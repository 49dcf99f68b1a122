/-
  Helper: the walks of the reference's words and K.
-/
import Derived.Test.YtnngadbmfdfmfaaDoorDgSch
namespace Go.Proofs.YtnngadbmfdfmfaaDoor
open Go.RowKit
set_option linter.unusedVariables false

theorem x_part2 (x : BitVec 32) (c : UInt8) : (256 * ((x.toNat : Nat) : Int) + ((c.toNat : Nat) : Int)) % 4294967296 = ((((x <<< 8) ||| BitVec.ofNat 32 c.toNat).toNat : Nat) : Int) := by
  have hc := UInt8.toNat_lt c
  have hx := x.isLt
  rw [BitVec.toNat_or, BitVec.toNat_shiftLeft, BitVec.toNat_ofNat, Nat.shiftLeft_eq]
  have e : x.toNat * 2 ^ 8 % 2 ^ 32 = (x.toNat % 2 ^ 24) <<< 8 := by rw [Nat.shiftLeft_eq]; omega
  rw [e, Nat.mod_eq_of_lt (show c.toNat < 2 ^ 32 by omega), ← Nat.shiftLeft_add_eq_or_of_lt (by omega), Nat.shiftLeft_eq]
  omega
theorem x_part3 (x : BitVec 32) (c : UInt8) : 256 * ((x.toNat : Nat) : Int) % 4294967296 + ((c.toNat : Nat) : Int) = ((((x <<< 8) ||| BitVec.ofNat 32 c.toNat).toNat : Nat) : Int) := by
  have hc := UInt8.toNat_lt c
  rw [← x_part2]; omega
theorem drewN_add' (w : World) (a b : Nat) : (w.drewN a).drewN b = w.drewN (a + b) := by
  first | exact drewN_add w a b | (unfold World.drewN; simp [Nat.add_assoc])
/-- a turn of the reference in a region that draws its order -/
theorem quietT {w : World} {m : Nat} (x : BitVec 32) (k : Int) (hk : (decide (0 ≤ k) && decide (k ≤ 32)) = true) : Calls Tryd.prog 35 #[.int .u32 ((x.toNat : Nat) : Int), .int .i64 k] (w.drewN m) fun e w'' => e = .returned (.int .u32 (((rr x k.toNat).toNat : Nat) : Int)) ∧ ∃ m', w'' = w.drewN m' := by
  simp only [Bool.and_eq_true, decide_eq_true_eq] at hk
  have h := turn_any x k.toNat (by omega) (w.drewN m)
  rw [show ((k.toNat : Nat) : Int) = k by omega] at h
  refine h.mono ?_
  rintro e w'' ⟨h1, q, h2⟩
  exact ⟨h1, m + q, by rw [h2, drewN_add']⟩
/-- the blocks of the walk -/
def SR (N : Nat) (w wr : World) (F : Nat → BitVec 32) : Prop := Blk wr N 62 (wv 64 zw) ∧ Blk wr (N + 1) 62 (wv 64 F) ∧ Below N w wr
theorem SR.drew {N : Nat} {w wr : World} {F : Nat → BitVec 32} (h : SR N w wr F) (q : Nat) : SR N w (wr.drewN q) F := ⟨h.1, h.2.1, Below.drewN h.2.2 q⟩
theorem SR.drew1 {N : Nat} {w wr : World} {F : Nat → BitVec 32} (h : SR N w wr F) : SR N w wr.drew F := ⟨h.1, h.2.1, Below.drew h.2.2⟩
theorem SR.set {N : Nat} {w wr : World} {F : Nat → BitVec 32} (h : SR N w wr F) (i : Nat) (x : BitVec 32) (z : Int) (hz : z = ((x.toNat : Nat) : Int)) : SR N w (wr.setCell ⟨N + 1, i, none⟩ (.int .u32 z)) (upd F i x) :=
  ⟨h.1.far (by omega) _ _, by rw [hz, ← wv_set]; exact h.2.1.set _ _, h.2.2.setCell (by show N ≤ N + 1; omega) _⟩
theorem SR.new (w : World) (M : Nat → UInt8) : SR w.heap.size w ((w.alloc (.cells (wv 64 zw).toArray 62)).alloc (.cells (wv 64 zw).toArray 62)) (mk M 0) := by
  rw [mk_zero]
  have h1 := Blk.new w 62 (wv 64 zw)
  have h2 := Blk.new (w.alloc (.cells (wv 64 zw).toArray 62)) 62 (wv 64 zw)
  have e1 : (w.alloc (.cells (wv 64 zw).toArray 62)).heap.size = w.heap.size + 1 := by simp
  rw [e1] at h2
  exact ⟨h1.old _, h2, ((Below.refl _ w).alloc (Nat.le_refl _) _).alloc (by simp) _⟩
set_option maxRecDepth 100000 in
set_option maxHeartbeats 4000000 in
theorem words_any (M : Nat → UInt8) (b off cap : Nat) (w : World) (hlt : b < w.heap.size) (hM : ∀ j, j < 64 → w.cell? ⟨b, off + j, none⟩ = some (.int .u8 (((M j).toNat : Nat) : Int))) :
    Calls Tryd.prog 33 #[.slice (some ⟨b, off, none⟩) 64 cap] w (ArrP 64 (wd M) w) := by
  have hz := zero64
  have hS0 := Lib.hid (SR.new w M)
  obtain ⟨N, hN⟩ : ∃ N, w.heap.size = N := ⟨_, rfl⟩
  have hFi : Hid (∀ w', Below N w w' → ArrP 64 (wd M) w (.returned (.agg (wv 64 (wd M)).toArray)) w') := fun w' h => ⟨rfl, by rw [hN]; exact h⟩
  have hMw : Hid (∀ wr j, Below N w wr → j < 64 → wr.cell? ⟨b, off + j, none⟩ = some (.int .u8 (((M j).toNat : Nat) : Int))) := fun wr j hb hj => by
    rw [hb.cell (show b < N by omega)]; exact hM j hj
  generalize ArrP 64 (wd M) w = Po at *
  clear hM
  go_enter Tryd.func33, Tryd.ntmps33
  go_wp2
  rw [hN] at hS0
  generalize (w.alloc (.cells (wv 64 zw).toArray 62)).alloc (.cells (wv 64 zw).toArray 62) = wb at *
  clear hz hN hlt
  go_loopw [4] (fun i wr => ∃ k : Nat, k ≤ 16 ∧ i = .int .i64 k ∧ Hid (SR N w wr (mk M k))) (fun i _ => 16 - (intOf i).toNat)
  case atStart => exact ⟨0, by omega, rfl, hS0⟩
  case round =>
    obtain ⟨k, hk, rfl, hS⟩ := hrel
    by_cases hlt : k < 16
    · rw [← mkp_zero] at hS
      go_wp2
      obtain ⟨wo, rfl⟩ : ∃ wo : World, wo = wr := ⟨_, rfl⟩
      go_loopw [5] (fun i wr => ∃ j : Nat, j ≤ 4 ∧ i = .int .i64 j ∧ Hid (SR N w wr (mkp M k j))) (fun i _ => 4 - (intOf i).toNat)
      case atStart => exact ⟨0, by omega, rfl, hS⟩
      case round =>
        obtain ⟨j, hj, rfl, hS⟩ := hrel
        by_cases hlj : j < 4
        · have c1 : wr.cell? ⟨b, off + (4 * k + j), none⟩ = _ := hMw.out wr (4 * k + j) hS.out.2.2 (by omega)
          have c2 := hS.out.2.1.cell k _ (wv_get (mkp M k j) k (by omega))
          have f2 := hS.out.2.1.free k
          have hn := Lib.hid (hS.out.set k (part M k (j + 1)))
          rw [mkp_step] at hn
          rw [mkp_at] at c2
          have hp : Hid (part M k (j + 1) = (part M k j <<< 8) ||| BitVec.ofNat 32 (M (4 * k + j)).toNat) := rfl
          rw [hp.out] at hn
          have hb := UInt8.toNat_lt (M (4 * k + j))
          generalize M (4 * k + j) = y at *
          generalize part M k j = x at *
          have e4 : IntKind.i64.wrap (4 * (k : Int)) = 4 * (k : Int) := IntWalk.i64_in _ (by omega)
          have e5 : IntKind.i64.wrap (4 * (k : Int) + (j : Int)) = 4 * (k : Int) + (j : Int) := IntWalk.i64_in _ (by omega)
          have q4 : (0 : Int) ≤ 4 * (k : Int) + (j : Int) := by omega
          have q5 : 4 * (k : Int) + (j : Int) < 64 := by omega
          have q6 : (k : Int) < 64 := by omega
          have n4 : (4 * (k : Int) + (j : Int)).toNat = 4 * k + j := by omega
          go_wp2_with fail
          go_region
          have hn2 := Lib.hid (hn.out _ (x_part3 x y)).drew1
          clear hn
          go_wp2
          go_roundw
          case rel => exact ⟨j + 1, by omega, by go_num, hn2⟩
          case measure => simp [intOf]; omega
        · obtain rfl : j = 4 := by omega
          rw [mkp_four M k hlt] at hS
          go_wp2
          go_roundw
          case rel => exact ⟨k + 1, by omega, by go_num, hS⟩
          case measure => simp [intOf]; omega
    · obtain rfl : k = 16 := by omega
      clear hlt
      go_wp2
      obtain ⟨wo, rfl⟩ : ∃ wo : World, wo = wr := ⟨_, rfl⟩
      go_loopw [6] (fun i wr => ∃ k : Nat, 16 ≤ k ∧ k ≤ 64 ∧ i = .int .i64 k ∧ Hid (SR N w wr (mk M k))) (fun i _ => 64 - (intOf i).toNat)
      case atStart => exact ⟨16, by omega, by omega, rfl, hS⟩
      case round =>
        obtain ⟨k, hk0, hk, rfl, hS⟩ := hrel
        by_cases hlt : k < 64
        · have hwd := wd_step M (mk M k) k (by omega) (fun i hi => if_pos hi)
          have ca : wr.cell? ⟨N + 1, k - 15, none⟩ = _ := hS.out.2.1.cell (k - 15) _ (wv_get (mk M k) _ (by omega))
          have e15 : IntKind.i64.wrap ((k : Int) - 15) = (k : Int) - 15 := IntWalk.i64_in _ (by omega)
          have e2 : IntKind.i64.wrap ((k : Int) - 2) = (k : Int) - 2 := IntWalk.i64_in _ (by omega)
          have e16 : IntKind.i64.wrap ((k : Int) - 16) = (k : Int) - 16 := IntWalk.i64_in _ (by omega)
          have e7 : IntKind.i64.wrap ((k : Int) - 7) = (k : Int) - 7 := IntWalk.i64_in _ (by omega)
          have q15 : (k : Int) - 15 < 64 := by omega
          have q2 : (k : Int) - 2 < 64 := by omega
          have q16 : (k : Int) - 16 < 64 := by omega
          have q7 : (k : Int) - 7 < 64 := by omega
          have r15 : (15 : Int) ≤ (k : Int) := by omega
          have r2 : (2 : Int) ≤ (k : Int) := by omega
          have r16 : (16 : Int) ≤ (k : Int) := by omega
          have r7 : (7 : Int) ≤ (k : Int) := by omega
          have n15 : ((k : Int) - 15).toNat = k - 15 := by omega
          have n2 : ((k : Int) - 2).toNat = k - 2 := by omega
          have n16 : ((k : Int) - 16).toNat = k - 16 := by omega
          have n7 : ((k : Int) - 7).toNat = k - 7 := by omega
          have cbF := Lib.hid (fun (W : World) (h : SR N w W (mk M k)) => h.2.1.cell (k - 2) _ (wv_get (mk M k) _ (by omega)))
          have ccF := Lib.hid (fun (W : World) (h : SR N w W (mk M k)) => h.2.1.cell (k - 16) _ (wv_get (mk M k) _ (by omega)))
          have cdF := Lib.hid (fun (W : World) (h : SR N w W (mk M k)) => h.2.1.cell (k - 7) _ (wv_get (mk M k) _ (by omega)))
          have ceF := Lib.hid (fun (W : World) (h : SR N w W (mk M k)) => h.2.1.cell k _ (wv_get (mk M k) _ (by omega)))
          have feF := Lib.hid (fun (W : World) (h : SR N w W (mk M k)) => h.2.1.free k)
          have hst := Lib.hid (fun (W : World) (h : SR N w W (mk M k)) => h.set k (wd M k))
          rw [mk_step] at hst
          have hdr := Lib.hid (fun (q : Nat) (W : World) (h : SR N w W (mk M k)) => h.drew q)
          rw [← hwd] at hst
          generalize mk M k (k - 15) = xa at *
          generalize mk M k (k - 2) = xb at *
          generalize mk M k (k - 16) = xc at *
          generalize mk M k (k - 7) = xd at *
          generalize mk M k k = xe at *
          clear hwd
          go_wp2_with fail
          go_quiet ((go_at_call 35; exact quietT _ _ (by decide)))
          have hSa := Lib.hid (hdr.out nq _ hS.out)
          rw [x_s0]
          generalize wr.drewN nq = wa at *
          have cb := cbF.out wa hSa.out
          clear ca
          generalize s0 xa = ya at *
          go_wp2_with fail
          go_quiet ((go_at_call 35; exact quietT _ _ (by decide)))
          have hSb := Lib.hid (hdr.out nq _ hSa.out)
          rw [x_s1]
          generalize wa.drewN nq = wb2 at *
          have cc := ccF.out wb2 hSb.out
          have cd := cdF.out wb2 hSb.out
          have ce := ceF.out wb2 hSb.out
          have fe := feF.out wb2 hSb.out
          have hs3 := Lib.hid (hst.out wb2 hSb.out)
          clear cb cbF ccF cdF ceF feF hst hdr e15 e2 q15 q2 r15 r2 n15 n2
          generalize s1 xb = yb at *
          go_wp2_with fail
          go_region
          have hs4 := Lib.hid (hs3.out _ (x_add4 _ _ _ _)).drew1
          go_wp2
          go_roundw
          case rel =>
            repeat (first | exact ⟨k + 1, by omega, by omega, by go_num, hs4⟩ | exact ⟨⟨k + 1, by omega, by omega, by go_num, hs4⟩, rfl⟩ | apply Exists.intro)
          case measure => simp [intOf]; omega
        · obtain rfl : k = 64 := by omega
          have e64 : wv 64 (mk M 64) = wv 64 (wd M) := wv_congr fun i hi => if_pos hi
          have hA1 := hS.out.1
          have hA2 := hS.out.2.1
          rw [e64] at hA2
          have hA1h := Lib.hid hA1
          have hA2h := Lib.hid hA2
          have hA3 := Lib.hid (hA1.row (wv 64 (wd M)))
          have hbe := Lib.hid (hFi.out _ (below_row hS.out.2.2 (Nat.le_refl N) (wv 64 (wd M)).toArray))
          have hi := Lib.hid (i64 (wd M))
          have hone := Lib.hid (arr_all (wv_one 64 (wd M)))
          have hsz : Hid ((wv 64 zw).toArray.size = (wv 64 (wd M)).toArray.size) := by show _ = _; simp [wv_len]
          clear hA1 hA2 e64 hlt hFi hS hS0
          generalize wv 64 (wd M) = ws at *
          go_wp2_with (first | (refine wpList_load_row rfl 62 (.tmp 3) rfl (N + 1) rfl 62 _ _ _ hA2h.out Tryd.underlying62 rfl hi.out ?_) | (refine wpList_store_row rfl 62 (.tmp 2) (.tmp 85) rfl N _ rfl rfl 62 _ hA1h.out hi.out hsz.out hone.out ?_))
          exact bodyPost_ret (v := .agg ws.toArray) (results_cell_row rfl _ _ N 62 _ _ _ rfl hA3.out Tryd.underlying62 rfl hi.out) rfl hbe.out
theorem build_k {ops : Array Oper} {rest : List Oper} {o : Oper} {a : Act} {w : World} {Q : Exit → Act → World → Prop} (hg : o.guard = none) (parts : Array (Nat × Operand)) (ho : o.op = .build 62 parts)
    (hp : Tryd.prog.built 62 (parts.map fun (i, x) => (i, a.eval x)).toList = some (wv 64 kc).toArray)
    (h : wpList Tryd.prog ops Q rest (a.put o.dst (.agg (wv 64 kc).toArray)) w) : wpList Tryd.prog ops Q (o :: rest) a w :=
  wpList_build hg _ parts ho (by rw [hp]; rfl) (by rw [hp]; exact h)
set_option maxRecDepth 100000 in
set_option maxHeartbeats 4000000 in
theorem k_any (w : World) : Calls Tryd.prog 34 #[] w (ArrP 64 kc w) := by
  have hz := zero64
  obtain ⟨N, hN⟩ : ∃ N, w.heap.size = N := ⟨_, rfl⟩
  have hA : Hid (Blk (w.alloc (.cells (wv 64 zw).toArray 62)) N 62 (wv 64 zw)) := by rw [← hN]; exact Blk.new w _ _
  have hA3 := Lib.hid (hA.out.row (wv 64 kc))
  have hbe : Hid (ArrP 64 kc w (.returned (.agg (wv 64 kc).toArray)) ((w.alloc (.cells (wv 64 zw).toArray 62)).setRow N (wv 64 kc).toArray)) := ⟨rfl, below_row ((Below.refl _ w).alloc (Nat.le_refl _) _) (by omega) _⟩
  have hi := Lib.hid (i64 kc)
  have hone := Lib.hid (arr_all (wv_one 64 kc))
  have hsz : Hid ((wv 64 zw).toArray.size = (wv 64 kc).toArray.size) := by show _ = _; simp [wv_len]
  generalize ArrP 64 kc w = Po at *
  go_enter Tryd.func34, Tryd.ntmps34
  go_wp2_with (first | (refine build_k rfl _ rfl (by kernel_rfl) ?_) | (refine wpList_store_row rfl 62 (.tmp 0) (.tmp 1) rfl N (wv 64 kc).toArray rfl rfl 62 _ hA.out hi.out hsz.out hone.out ?_))
  exact bodyPost_ret (v := .agg (wv 64 kc).toArray) (results_cell_row rfl _ _ N 62 _ _ _ rfl hA3.out Tryd.underlying62 rfl hi.out) rfl hbe.out
end Go.Proofs.YtnngadbmfdfmfaaDoor
