/-
  Helper: the walk of schedule.
-/
import Derived.Test.YtnngadbmfdfmfaaDoorDgMem
import Derived.Test.YtnngadbmfdfmfaaDoorDgPlain
namespace Go.Proofs.YtnngadbmfdfmfaaDoor
open Go.RowKit
set_option linter.unusedVariables false

/-- the words, as far as they are made -/
def mk (M : Nat → UInt8) (k : Nat) : Nat → BitVec 32 := fun i => if i < k then wd M i else 0
def mkp (M : Nat → UInt8) (k j : Nat) : Nat → BitVec 32 := fun i => if i < k then wd M i else if i = k then part M k j else 0
theorem mkp_zero (M : Nat → UInt8) (k : Nat) : mkp M k 0 = mk M k := by
  funext i; unfold mkp mk; by_cases h : i < k
  · rw [if_pos h, if_pos h]
  · rw [if_neg h, if_neg h]; split <;> rfl
theorem mkp_four (M : Nat → UInt8) (k : Nat) (hk : k < 16) : mkp M k 4 = mk M (k + 1) := by
  funext i; unfold mkp mk; by_cases h : i < k
  · rw [if_pos h, if_pos (by omega)]
  · rw [if_neg h]; by_cases e : i = k
    · subst e; rw [if_pos rfl, if_pos (by omega), wd_lo _ _ hk]
    · rw [if_neg e, if_neg (by omega)]
theorem mkp_step (M : Nat → UInt8) (k j : Nat) : upd (mkp M k j) k (part M k (j + 1)) = mkp M k (j + 1) := by
  funext i; unfold upd mkp; by_cases h : i = k
  · subst h; rw [if_pos rfl, if_neg (by omega), if_pos rfl]
  · rw [if_neg h, if_neg h, if_neg h]
theorem mkp_at (M : Nat → UInt8) (k j : Nat) : mkp M k j k = part M k j := by
  unfold mkp; rw [if_neg (by omega), if_pos rfl]
theorem mk_step (M : Nat → UInt8) (k : Nat) : upd (mk M k) k (wd M k) = mk M (k + 1) := by
  funext i; unfold upd mk; by_cases h : i = k
  · subst h; rw [if_pos rfl, if_pos (by omega)]
  · rw [if_neg h]; by_cases g : i < k
    · rw [if_pos g, if_pos (by omega)]
    · rw [if_neg g, if_neg (by omega)]
theorem mk_zero (M : Nat → UInt8) : mk M 0 = zw := by funext i; unfold mk zw; rw [if_neg (by omega)]
theorem x_s0 (x : BitVec 32) : bits .xor .u32 (bits .xor .u32 (((rr x 7).toNat : Nat) : Int) (((rr x 18).toNat : Nat) : Int)) (((x.toNat : Nat) : Int) / 8) = (((s0 x).toNat : Nat) : Int) := by
  rw [show (8 : Int) = 2 ^ 3 by decide, x_shr, x_xor, x_xor]; rfl
theorem x_s1 (x : BitVec 32) : bits .xor .u32 (bits .xor .u32 (((rr x 17).toNat : Nat) : Int) (((rr x 19).toNat : Nat) : Int)) (((x.toNat : Nat) : Int) / 1024) = (((s1 x).toNat : Nat) : Int) := by
  rw [show (1024 : Int) = 2 ^ 10 by decide, x_shr, x_xor, x_xor]; rfl
/-- an array of words comes back -/
def ArrP (n : Nat) (F : Nat → BitVec 32) (w : World) (e : Ending) (w' : World) : Prop := e = .returned (.agg (wv n F).toArray) ∧ Below w.heap.size w w'
/-- the blocks of the walk -/
def SC (N : Nat) (w wr : World) (M : Nat → UInt8) (F : Nat → BitVec 32) : Prop := Blk wr N 32 (bv 64 M) ∧ Blk wr (N + 1) 62 (wv 64 zw) ∧ Blk wr (N + 1 + 1) 62 (wv 64 F) ∧ Below N w wr
theorem SC.drew {N : Nat} {w wr : World} {M : Nat → UInt8} {F : Nat → BitVec 32} (h : SC N w wr M F) (q : Nat) : SC N w (wr.drewN q) M F := ⟨h.1, h.2.1, h.2.2.1, Below.drewN h.2.2.2 q⟩
theorem SC.drew1 {N : Nat} {w wr : World} {M : Nat → UInt8} {F : Nat → BitVec 32} (h : SC N w wr M F) : SC N w wr.drew M F := ⟨h.1, h.2.1, h.2.2.1, Below.drew h.2.2.2⟩
theorem SC.set {N : Nat} {w wr : World} {M : Nat → UInt8} {F : Nat → BitVec 32} (h : SC N w wr M F) (i : Nat) (x : BitVec 32) (z : Int) (hz : z = ((x.toNat : Nat) : Int)) : SC N w (wr.setCell ⟨N + 1 + 1, i, none⟩ (.int .u32 z)) M (upd F i x) :=
  ⟨h.1.far (by omega) _ _, h.2.1.far (by omega) _ _, by rw [hz, ← wv_set]; exact h.2.2.1.set _ _, h.2.2.2.setCell (by show N ≤ N + 1 + 1; omega) _⟩
theorem SC.new (w : World) (M : Nat → UInt8) : SC w.heap.size w (((w.alloc (.cells (bv 64 M).toArray 32)).alloc (.cells (wv 64 zw).toArray 62)).alloc (.cells (wv 64 zw).toArray 62)) M (mk M 0) := by
  rw [mk_zero]
  have h1 := Blk.new w 32 (bv 64 M)
  have h2 := Blk.new (w.alloc (.cells (bv 64 M).toArray 32)) 62 (wv 64 zw)
  have h3 := Blk.new ((w.alloc (.cells (bv 64 M).toArray 32)).alloc (.cells (wv 64 zw).toArray 62)) 62 (wv 64 zw)
  have e1 : (w.alloc (.cells (bv 64 M).toArray 32)).heap.size = w.heap.size + 1 := by simp
  have e2 : ((w.alloc (.cells (bv 64 M).toArray 32)).alloc (.cells (wv 64 zw).toArray 62)).heap.size = w.heap.size + 1 + 1 := by simp
  rw [e2] at h3
  rw [e1] at h2
  exact ⟨(h1.old _).old _, h2.old _, h3, (((Below.refl _ w).alloc (Nat.le_refl _) _).alloc (by simp) _).alloc (by simp; omega) _⟩
set_option maxRecDepth 100000 in
set_option maxHeartbeats 4000000 in
theorem schedule_any (M : Nat → UInt8) (w : World) :
    Calls Tryd.prog 38 #[.agg (bv 64 M).toArray] w (ArrP 64 (wd M) w) := by
  have hz := zero64
  have hS0 := Lib.hid (SC.new w M)
  obtain ⟨N, hN⟩ : ∃ N, w.heap.size = N := ⟨_, rfl⟩
  have hFi : Hid (∀ w', Below N w w' → ArrP 64 (wd M) w (.returned (.agg (wv 64 (wd M)).toArray)) w') := fun w' h => ⟨rfl, by rw [hN]; exact h⟩
  generalize ArrP 64 (wd M) w = Po at *
  go_enter Tryd.func38, Tryd.ntmps38
  go_wp2
  rw [hN] at hS0
  generalize (((w.alloc (.cells (bv 64 M).toArray 32)).alloc (.cells (wv 64 zw).toArray 62)).alloc (.cells (wv 64 zw).toArray 62)) = wb at *
  clear hz hN
  go_loopw [12] (fun i wr => ∃ k : Nat, k ≤ 16 ∧ i = .int .i64 k ∧ Hid (SC N w wr M (mk M k))) (fun i _ => 16 - (intOf i).toNat)
  case atStart => exact ⟨0, by omega, rfl, hS0⟩
  case round =>
    obtain ⟨k, hk, rfl, hS⟩ := hrel
    by_cases hlt : k < 16
    · have hsl : ∀ W : World, (Instr.sliceAt 32 (.pointer (some ⟨N, 0, none⟩)) (some (.int .i64 (4 * (k : Int)))) (some (.int .i64 (4 * (k : Int) + 4))) none).run Tryd.prog W = .ok (.slice (some ⟨N, 4 * k, none⟩) 4 (64 - 4 * k)) W := fun W => by
        rw [sl_lh W N 0 (4 * k) (4 * k + 4) _ _ (by omega) (by omega) (by omega) (by omega) (by omega), Nat.zero_add, show 4 * k + 4 - 4 * k = 4 by omega]
      rw [← mkp_zero] at hS
      go_wp2
      clear hsl
      obtain ⟨wo, rfl⟩ : ∃ wo : World, wo = wr := ⟨_, rfl⟩
      go_loopw [22] (fun i wr => ∃ j : Nat, j ≤ 4 ∧ i = .int .i64 j ∧ Hid (SC N w wr M (mkp M k j))) (fun i _ => 4 - (intOf i).toNat)
      case atStart => exact ⟨0, by omega, rfl, hS⟩
      case round =>
        obtain ⟨j, hj, rfl, hS⟩ := hrel
        by_cases hlj : j < 4
        · have c1 := hS.out.1.cell (4 * k + j) _ (bv_get M (4 * k + j) (by omega))
          have c2 := hS.out.2.2.1.cell k _ (wv_get (mkp M k j) k (by omega))
          have f2 := hS.out.2.2.1.free k
          have hn := Lib.hid (hS.out.set k (part M k (j + 1)))
          rw [mkp_step] at hn
          rw [mkp_at] at c2
          have hp : Hid (part M k (j + 1) = (part M k j <<< 8) ||| BitVec.ofNat 32 (M (4 * k + j)).toNat) := rfl
          rw [hp.out] at hn
          have hb := UInt8.toNat_lt (M (4 * k + j))
          generalize M (4 * k + j) = y at *
          generalize part M k j = x at *
          go_wp2
          go_roundw
          case rel => exact ⟨j + 1, by omega, by go_num, hn.out _ (x_part x y)⟩
          case measure => simp [intOf]; omega
        · obtain rfl : j = 4 := by omega
          rw [mkp_four M k hlt] at hS
          go_wp2
          go_roundw
          case rel => exact ⟨k + 1, by omega, by go_num, hS⟩
          case measure => simp [intOf]; omega
    · obtain rfl : k = 16 := by omega
      clear hlt
      go_wp2
      obtain ⟨wo, rfl⟩ : ∃ wo : World, wo = wr := ⟨_, rfl⟩
      go_loopw [7] (fun i wr => ∃ k : Nat, 16 ≤ k ∧ k ≤ 64 ∧ i = .int .i64 k ∧ Hid (SC N w wr M (mk M k))) (fun i _ => 64 - (intOf i).toNat)
      case atStart => exact ⟨16, by omega, by omega, rfl, hS⟩
      case round =>
        obtain ⟨k, hk0, hk, rfl, hS⟩ := hrel
        by_cases hlt : k < 64
        · have hc : Hid (∀ q j, j < 64 → (wr.drewN q).cell? ⟨N + 1 + 1, j, none⟩ = some (.int .u32 (((mk M k j).toNat : Nat) : Int))) := fun q j hj => (hS.out.drew q).2.2.1.cell j _ (wv_get (mk M k) j hj)
          have ca : wr.cell? ⟨N + 1 + 1, k - 15, none⟩ = _ := hc.out 0 (k - 15) (by omega)
          have cb : wr.cell? ⟨N + 1 + 1, k - 2, none⟩ = _ := hc.out 0 (k - 2) (by omega)
          have e15 : IntKind.i64.wrap ((k : Int) - 15) = (k : Int) - 15 := IntWalk.i64_in _ (by omega)
          have e2 : IntKind.i64.wrap ((k : Int) - 2) = (k : Int) - 2 := IntWalk.i64_in _ (by omega)
          have p15 : (0 : Int) ≤ (k : Int) - 15 := by omega
          have p2 : (0 : Int) ≤ (k : Int) - 2 := by omega
          have q15 : (k : Int) - 15 < 64 := by omega
          have r15 : (15 : Int) ≤ (k : Int) := by omega
          have r2 : (2 : Int) ≤ (k : Int) := by omega
          have q2 : (k : Int) - 2 < 64 := by omega
          have n15 : ((k : Int) - 15).toNat = k - 15 := by omega
          have n2 : ((k : Int) - 2).toNat = k - 2 := by omega
          generalize hxa : mk M k (k - 15) = xa at *
          generalize hxb : mk M k (k - 2) = xb at *
          have hxah := Lib.hid hxa
          have hxbh := Lib.hid hxb
          clear hxa hxb
          go_wp2_with fail
          go_quiet (fail)
          obtain ⟨wq, hwq⟩ : ∃ wq, wr.drewN nq = wq := ⟨_, rfl⟩
          have hS2 : Hid (SC N w wq M (mk M k)) := by rw [← hwq]; exact hS.out.drew nq
          rw [hwq]
          clear hwq ca cb
          have Rr : Hid (∀ (x : BitVec 32) (q s : Nat) (W : World), bits .and .u64 (IntKind.u64.wrap (-(q : Int))) 31 = (s : Int) → s ≤ 32 → 32 - s = q → Calls Tryd.prog 24 #[.int .u32 ((x.toNat : Nat) : Int), .int .i64 (-(q : Int))] W (WordP (rr x q) W)) := fun x q s W h1 h2 h3 => by
            have := rotl_any x (-(q : Int)) s h1 h2 W
            rw [h3] at this
            unfold rr
            rw [BitVec.or_comm, show 32 - q = s by omega]
            exact this
          go_wp2_with fail
          refine (Rr.out xa 7 25 _ (by decide) (by omega) (by omega)).mono ?_
          rintro e wx ⟨rfl, rfl⟩
          go_wp2_with fail
          refine (Rr.out xa 18 14 _ (by decide) (by omega) (by omega)).mono ?_
          rintro e wx ⟨rfl, rfl⟩
          go_wp2_with fail
          refine (Rr.out xb 17 15 _ (by decide) (by omega) (by omega)).mono ?_
          rintro e wx ⟨rfl, rfl⟩
          go_wp2_with fail
          refine (Rr.out xb 19 13 _ (by decide) (by omega) (by omega)).mono ?_
          rintro e wx ⟨rfl, rfl⟩
          go_wp2_with fail
          rw [x_s0, x_s1]
          have hwd := wd_step M (mk M k) k (by omega) (fun i hi => if_pos hi)
          rw [hxah.out, hxbh.out] at hwd
          have hwdh := Lib.hid hwd
          clear hwd hc hxah hxbh Rr
          have cc : wq.cell? ⟨N + 1 + 1, k - 16, none⟩ = _ := hS2.out.2.2.1.cell (k - 16) _ (wv_get (mk M k) _ (by omega))
          have cd : wq.cell? ⟨N + 1 + 1, k - 7, none⟩ = _ := hS2.out.2.2.1.cell (k - 7) _ (wv_get (mk M k) _ (by omega))
          have ce : wq.cell? ⟨N + 1 + 1, k, none⟩ = _ := hS2.out.2.2.1.cell k _ (wv_get (mk M k) _ (by omega))
          have fe : wq.frozen? ⟨N + 1 + 1, k, none⟩ = false := hS2.out.2.2.1.free k
          have e16 : IntKind.i64.wrap ((k : Int) - 16) = (k : Int) - 16 := IntWalk.i64_in _ (by omega)
          have e7 : IntKind.i64.wrap ((k : Int) - 7) = (k : Int) - 7 := IntWalk.i64_in _ (by omega)
          have q16 : (k : Int) - 16 < 64 := by omega
          have q7 : (k : Int) - 7 < 64 := by omega
          have r16 : (16 : Int) ≤ (k : Int) := by omega
          have r7 : (7 : Int) ≤ (k : Int) := by omega
          have n16 : ((k : Int) - 16).toNat = k - 16 := by omega
          have n7 : ((k : Int) - 7).toNat = k - 7 := by omega
          generalize s0 xa = ya at *
          generalize s1 xb = yb at *
          generalize mk M k (k - 16) = xc at *
          generalize mk M k (k - 7) = xd at *
          generalize mk M k k = xe at *
          clear p15 p2 q15 q2 r15 r2 n15 n2 e15 e2
          go_region
          have hS3 : Hid (SC N w (wq.setCell ⟨N + 1 + 1, k, none⟩ (.int .u32 ((((xc.toNat : Nat) : Int) + ((ya.toNat : Nat) : Int) + ((xd.toNat : Nat) : Int) + ((yb.toNat : Nat) : Int)) % 4294967296))).drew M (mk M (k + 1))) := by
            rw [← mk_step, ← hwdh.out]
            exact (hS2.out.set k _ _ (x_add4 _ _ _ _)).drew1
          go_wp2
          go_roundw
          case rel =>
            repeat (first | exact ⟨⟨k + 1, by omega, by omega, by go_num, hS3⟩, rfl⟩ | apply Exists.intro)
          case measure => simp [intOf]; omega
        · obtain rfl : k = 64 := by omega
          have e64 : wv 64 (mk M 64) = wv 64 (wd M) := wv_congr fun i hi => if_pos hi
          have hA1 := hS.out.2.1
          have hA2 := hS.out.2.2.1
          rw [e64] at hA2
          have hA1h := Lib.hid hA1
          have hA2h := Lib.hid hA2
          have hA3 := Lib.hid (hA1.row (wv 64 (wd M)))
          have hbe := Lib.hid (hFi.out _ (below_row hS.out.2.2.2 (Nat.le_succ N) (wv 64 (wd M)).toArray))
          have hi := Lib.hid (i64 (wd M))
          have hone := Lib.hid (arr_all (wv_one 64 (wd M)))
          have hsz : Hid ((wv 64 zw).toArray.size = (wv 64 (wd M)).toArray.size) := by show _ = _; simp [wv_len]
          clear hA1 hA2 e64 hlt hFi hS hS0
          generalize wv 64 (wd M) = ws at *
          go_wp2_with (first | (refine wpList_load_row rfl 62 (.tmp 3) rfl (N + 1 + 1) rfl 62 _ _ _ hA2h.out Tryd.underlying62 rfl hi.out ?_) | (refine wpList_store_row rfl 62 (.tmp 2) (.tmp 80) rfl (N + 1) _ rfl rfl 62 _ hA1h.out hi.out hsz.out hone.out ?_))
          exact bodyPost_ret (v := .agg ws.toArray) (results_cell_row rfl _ _ (N + 1) 62 _ _ _ rfl hA3.out Tryd.underlying62 rfl hi.out) rfl hbe.out
end Go.Proofs.YtnngadbmfdfmfaaDoor
