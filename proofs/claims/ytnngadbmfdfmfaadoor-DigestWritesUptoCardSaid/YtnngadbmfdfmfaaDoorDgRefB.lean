/-
  Helper: the walk of the reference's block.
-/
import Derived.Test.YtnngadbmfdfmfaaDoorDgRefW
import Derived.Test.YtnngadbmfdfmfaaDoorDgAdd
import Derived.Deep.Cut
namespace Go.Proofs.YtnngadbmfdfmfaaDoor
open Go.RowKit
set_option linter.unusedVariables false

/-- a block's state behind its rounds -/
def comp (M : Nat → UInt8) (s : Nat → BitVec 32) : Nat → BitVec 32 := fun i => s i + rnd M s 64 i
/-- the blocks of the walk -/
structure SB (N P : Nat) (w wr : World) (M : Nat → UInt8) (s F : Nat → BitVec 32) : Prop where
  fs0 : Blk wr N 31 (wv 8 s)
  fr : Blk wr (N + 1) 31 (wv 8 zw)
  fw : Blk wr P 62 (wv 64 (wd M))
  fk : Blk wr (P + 1) 62 (wv 64 kc)
  fv : Blk wr (P + 1 + 1) 31 (wv 8 F)
  fb : Below N w wr
  fl : N + 2 ≤ P
theorem SB.drew {N P : Nat} {w wr : World} {M : Nat → UInt8} {s F : Nat → BitVec 32} (h : SB N P w wr M s F) (q : Nat) : SB N P w (wr.drewN q) M s F := ⟨h.fs0, h.fr, h.fw, h.fk, h.fv, Below.drewN h.fb q, h.fl⟩
theorem SB.drew1 {N P : Nat} {w wr : World} {M : Nat → UInt8} {s F : Nat → BitVec 32} (h : SB N P w wr M s F) : SB N P w wr.drew M s F := ⟨h.fs0, h.fr, h.fw, h.fk, h.fv, Below.drew h.fb, h.fl⟩
theorem SB.set {N P : Nat} {w wr : World} {M : Nat → UInt8} {s F : Nat → BitVec 32} (h : SB N P w wr M s F) (i : Nat) (x : BitVec 32) (z : Int) (hz : z = ((x.toNat : Nat) : Int)) : SB N P w (wr.setCell ⟨P + 1 + 1, i, none⟩ (.int .u32 z)) M s (upd F i x) := by
  have h5 := h.fl
  exact ⟨h.fs0.far (by omega) _ _, h.fr.far (by omega) _ _, h.fw.far (by omega) _ _, h.fk.far (by omega) _ _, by rw [hz, ← wv_set]; exact h.fv.set _ _, h.fb.setCell (by show N ≤ P + 1 + 1; omega) _, h5⟩
theorem SB.put {N P : Nat} {w wr : World} {M : Nat → UInt8} {s F : Nat → BitVec 32} (h : SB N P w wr M s F) (i : Nat) (x : BitVec 32) (z : Int) (hz : z = ((x.toNat : Nat) : Int)) : SB N P w (wr.setCell ⟨N, i, none⟩ (.int .u32 z)) M (upd s i x) F := by
  have h5 := h.fl
  exact ⟨by rw [hz, ← wv_set]; exact h.fs0.set _ _, h.fr.far (by omega) _ _, h.fw.far (by omega) _ _, h.fk.far (by omega) _ _, h.fv.far (by omega) _ _, h.fb.setCell (by show N ≤ N; omega) _, h5⟩
theorem SB.congr {N P : Nat} {w wr : World} {M : Nat → UInt8} {s F G : Nat → BitVec 32} (h : SB N P w wr M s F) (hg : ∀ i, i < 8 → F i = G i) : SB N P w wr M s G := ⟨h.fs0, h.fr, h.fw, h.fk, by rw [← wv_congr hg]; exact h.fv, h.fb, h.fl⟩
theorem SB.set8 {N P : Nat} {w wr : World} {M : Nat → UInt8} {s F : Nat → BitVec 32} (h : SB N P w wr M s F) (G : Nat → BitVec 32) (z0 z1 z2 z3 z4 z5 z6 z7 : Int)
    (e0 : z0 = (((G 0).toNat : Nat) : Int)) (e1 : z1 = (((G 1).toNat : Nat) : Int)) (e2 : z2 = (((G 2).toNat : Nat) : Int)) (e3 : z3 = (((G 3).toNat : Nat) : Int)) (e4 : z4 = (((G 4).toNat : Nat) : Int)) (e5 : z5 = (((G 5).toNat : Nat) : Int)) (e6 : z6 = (((G 6).toNat : Nat) : Int)) (e7 : z7 = (((G 7).toNat : Nat) : Int)) :
    SB N P w ((((((((wr.setCell ⟨P + 1 + 1, 0, none⟩ (.int .u32 z0)).setCell ⟨P + 1 + 1, 1, none⟩ (.int .u32 z1)).setCell ⟨P + 1 + 1, 2, none⟩ (.int .u32 z2)).setCell ⟨P + 1 + 1, 3, none⟩ (.int .u32 z3)).setCell ⟨P + 1 + 1, 4, none⟩ (.int .u32 z4)).setCell ⟨P + 1 + 1, 5, none⟩ (.int .u32 z5)).setCell ⟨P + 1 + 1, 6, none⟩ (.int .u32 z6)).setCell ⟨P + 1 + 1, 7, none⟩ (.int .u32 z7)) M s G :=
  ((((((((h.set 0 _ _ e0).set 1 _ _ e1).set 2 _ _ e2).set 3 _ _ e3).set 4 _ _ e4).set 5 _ _ e5).set 6 _ _ e6).set 7 _ _ e7).congr fun i hi => by
    rcases lt8 hi with rfl | rfl | rfl | rfl | rfl | rfl | rfl | rfl <;> rfl
theorem SB.c8 {N P : Nat} {w wr : World} {M : Nat → UInt8} {s F : Nat → BitVec 32} (h : SB N P w wr M s F) (i : Nat) (hi : i < 8) : wr.cell? ⟨P + 1 + 1, i, none⟩ = some (.int .u32 (((F i).toNat : Nat) : Int)) := h.fv.cell i _ (wv_get F i hi)
theorem SB.cs {N P : Nat} {w wr : World} {M : Nat → UInt8} {s F : Nat → BitVec 32} (h : SB N P w wr M s F) (i : Nat) (hi : i < 8) : wr.cell? ⟨N, i, none⟩ = some (.int .u32 (((s i).toNat : Nat) : Int)) := h.fs0.cell i _ (wv_get s i hi)
theorem SB.ck {N P : Nat} {w wr : World} {M : Nat → UInt8} {s F : Nat → BitVec 32} (h : SB N P w wr M s F) (i : Nat) (hi : i < 64) : wr.cell? ⟨P + 1, i, none⟩ = some (.int .u32 (((kc i).toNat : Nat) : Int)) := h.fk.cell i _ (wv_get kc i hi)
theorem SB.cw {N P : Nat} {w wr : World} {M : Nat → UInt8} {s F : Nat → BitVec 32} (h : SB N P w wr M s F) (i : Nat) (hi : i < 64) : wr.cell? ⟨P, i, none⟩ = some (.int .u32 (((wd M i).toNat : Nat) : Int)) := h.fw.cell i _ (wv_get (wd M) i hi)
set_option maxRecDepth 100000 in
set_option maxHeartbeats 8000000 in
theorem block_any (M : Nat → UInt8) (s : Nat → BitVec 32) (b off cap : Nat) (w : World) (hlt : b < w.heap.size) (hM : ∀ j, j < 64 → w.cell? ⟨b, off + j, none⟩ = some (.int .u8 (((M j).toNat : Nat) : Int))) :
    Calls Tryd.prog 18 #[.agg (wv 8 s).toArray, .slice (some ⟨b, off, none⟩) 64 cap] w (ArrP 8 (comp M s) w) := by
  have hz1 := zero8
  have hz2 := zero64
  obtain ⟨N, hN⟩ : ∃ N, w.heap.size = N := ⟨_, rfl⟩
  have hFi : Hid (∀ w', Below N w w' → ArrP 8 (comp M s) w (.returned (.agg (wv 8 (comp M s)).toArray)) w') := fun w' h => ⟨rfl, by rw [hN]; exact h⟩
  generalize ArrP 8 (comp M s) w = Po at *
  have hW : Hid (∀ w1, Below N w w1 → Calls Tryd.prog 33 #[.slice (some ⟨b, off, none⟩) 64 cap] w1 (ArrP 64 (wd M) w1)) := fun w1 h => words_any M b off cap w1 (Nat.lt_of_lt_of_le hlt h.size) (fun j hj => by rw [h.cell (show b < N by omega)]; exact hM j hj)
  have hK : Hid (∀ w1, Calls Tryd.prog 34 #[] w1 (ArrP 64 kc w1)) := k_any
  have h0 : Hid (Below N w ((w.alloc (.cells (wv 8 s).toArray 31)).alloc (.cells (wv 8 zw).toArray 31)) ∧ Blk ((w.alloc (.cells (wv 8 s).toArray 31)).alloc (.cells (wv 8 zw).toArray 31)) N 31 (wv 8 s) ∧ Blk ((w.alloc (.cells (wv 8 s).toArray 31)).alloc (.cells (wv 8 zw).toArray 31)) (N + 1) 31 (wv 8 zw)) := by
    have k1 := Blk.new w 31 (wv 8 s)
    have k2 := Blk.new (w.alloc (.cells (wv 8 s).toArray 31)) 31 (wv 8 zw)
    have e1 : (w.alloc (.cells (wv 8 s).toArray 31)).heap.size = N + 1 := by simp [hN]
    rw [e1] at k2
    rw [hN] at k1
    exact ⟨((Below.refl N w).alloc (by omega) _).alloc (by rw [e1]; omega) _, k1.old _, k2⟩
  clear hM
  go_enter Tryd.func18, Tryd.ntmps18
  go_wp2_with fail
  generalize (w.alloc (.cells (wv 8 s).toArray 31)).alloc (.cells (wv 8 zw).toArray 31) = w0 at *
  refine (hW.out _ h0.out.1).mono ?_
  rintro e w1 ⟨rfl, hb1⟩
  go_wp2_with fail
  refine (hK.out _).mono ?_
  rintro e w2 ⟨rfl, hb2⟩
  have hb12 : Below w0.heap.size w0 w2 := hb1.trans (hb2.mono hb1.size)
  have hB2 : Hid (Below N w w2) := h0.out.1.trans (hb12.mono h0.out.1.size |>.mono (by omega))
  have hs2 : Hid (Blk w2 N 31 (wv 8 s)) := h0.out.2.1.go hb12 h0.out.2.1.lt
  have hr2 : Hid (Blk w2 (N + 1) 31 (wv 8 zw)) := h0.out.2.2.go hb12 h0.out.2.2.lt
  obtain ⟨P, hP⟩ : ∃ P, w2.heap.size = P := ⟨_, rfl⟩
  have hNP : N + 2 ≤ P := by have := hr2.out.lt; omega
  have i1 := Lib.hid (i64 (wd M))
  have i2 := Lib.hid (i64 kc)
  have i3 := Lib.hid (i8 s)
  have o1 := Lib.hid (arr_all (wv_one 64 (wd M)))
  have o2 := Lib.hid (arr_all (wv_one 64 kc))
  have o3 := Lib.hid (arr_all (wv_one 8 s))
  have z1 : Hid ((wv 64 zw).toArray.size = (wv 64 (wd M)).toArray.size) := by show _ = _; simp [wv_len]
  have z2 : Hid ((wv 64 zw).toArray.size = (wv 64 kc).toArray.size) := by show _ = _; simp [wv_len]
  have z3 : Hid ((wv 8 zw).toArray.size = (wv 8 s).toArray.size) := by show _ = _; simp [wv_len]
  clear hb1 hb2 hb12 h0 hW hK hlt
  -- the two arrays
  have hA1 : Hid (Blk ((w2.alloc (.cells (wv 64 zw).toArray 62)).alloc (.cells (wv 64 zw).toArray 62)) P 62 (wv 64 zw)) := by
    have := Blk.new w2 62 (wv 64 zw); rw [hP] at this; exact this.old _
  have hA2 : Hid (Blk (((w2.alloc (.cells (wv 64 zw).toArray 62)).alloc (.cells (wv 64 zw).toArray 62)).setRow P (wv 64 (wd M)).toArray) (P + 1) 62 (wv 64 zw)) := by
    have := Blk.new (w2.alloc (.cells (wv 64 zw).toArray 62)) 62 (wv 64 zw)
    rw [show (w2.alloc (.cells (wv 64 zw).toArray 62)).heap.size = P + 1 by simp [hP]] at this
    exact this.rowFar (by omega) _
  have hA3 : Hid (Blk ((((w2.alloc (.cells (wv 64 zw).toArray 62)).alloc (.cells (wv 64 zw).toArray 62)).setRow P (wv 64 (wd M)).toArray).setRow (P + 1) (wv 64 kc).toArray) N 31 (wv 8 s)) := (((hs2.out.old _).old _).rowFar (by omega) _).rowFar (by omega) _
  have hA3r : Hid (Blk ((((w2.alloc (.cells (wv 64 zw).toArray 62)).alloc (.cells (wv 64 zw).toArray 62)).setRow P (wv 64 (wd M)).toArray).setRow (P + 1) (wv 64 kc).toArray) (N + 1) 31 (wv 8 zw)) := (((hr2.out.old _).old _).rowFar (by omega) _).rowFar (by omega) _
  have hA4 : Hid (Blk ((((w2.alloc (.cells (wv 64 zw).toArray 62)).alloc (.cells (wv 64 zw).toArray 62)).setRow P (wv 64 (wd M)).toArray).setRow (P + 1) (wv 64 kc).toArray) P 62 (wv 64 (wd M))) := (hA1.out.row _).rowFar (by omega) _
  have hA5 : Hid (Blk ((((w2.alloc (.cells (wv 64 zw).toArray 62)).alloc (.cells (wv 64 zw).toArray 62)).setRow P (wv 64 (wd M)).toArray).setRow (P + 1) (wv 64 kc).toArray) (P + 1) 62 (wv 64 kc)) := hA2.out.row _
  have hAb : Hid (Below N w ((((w2.alloc (.cells (wv 64 zw).toArray 62)).alloc (.cells (wv 64 zw).toArray 62)).setRow P (wv 64 (wd M)).toArray).setRow (P + 1) (wv 64 kc).toArray)) := below_row (below_row ((hB2.out.alloc (by omega) _).alloc (by simp; omega) _) (by omega) _) (by omega) _
  have hsz : ((((w2.alloc (.cells (wv 64 zw).toArray 62)).alloc (.cells (wv 64 zw).toArray 62)).setRow P (wv 64 (wd M)).toArray).setRow (P + 1) (wv 64 kc).toArray).heap.size = P + 1 + 1 := by rw [size_setRow, size_setRow]; simp [hP]
  clear hN
  go_upto_region 2 with (first | (refine wpList_store_row rfl 62 (.tmp 5) (.tmp 15) rfl P _ rfl rfl 62 _ hA1.out i1.out z1.out o1.out ?_) | (refine wpList_store_row rfl 62 (.tmp 6) (.tmp 16) rfl (P + 1) _ rfl rfl 62 _ hA2.out i2.out z2.out o2.out ?_))
  generalize (((w2.alloc (.cells (wv 64 zw).toArray 62)).alloc (.cells (wv 64 zw).toArray 62)).setRow P (wv 64 (wd M)).toArray).setRow (P + 1) (wv 64 kc).toArray = w3 at *
  clear hA1 hA2 hP hB2 hs2 hr2
  have hC : Hid (Blk (w3.alloc (.cells (wv 8 zw).toArray 31)) (P + 1 + 1) 31 (wv 8 zw)) := by rw [← hsz]; exact Blk.new w3 _ _
  have hS0 : Hid (SB N P w ((w3.alloc (.cells (wv 8 zw).toArray 31)).setRow (P + 1 + 1) (wv 8 s).toArray) M s s) :=
    ⟨(hA3.out.old _).rowFar (by omega) _, (hA3r.out.old _).rowFar (by omega) _, (hA4.out.old _).rowFar (by omega) _, (hA5.out.old _).rowFar (by omega) _, hC.out.row _, below_row (hAb.out.alloc (by omega) _) (by omega) _, hNP⟩
  go_wp2_with (first
    | (refine wpList_load_row rfl 31 (.tmp 2) rfl N rfl 31 _ _ _ hA3.out Tryd.underlying31 rfl i3.out ?_)
    | (refine wpList_store_row rfl 31 (.tmp 7) (.tmp 17) rfl (P + 1 + 1) _ rfl rfl 31 _ hC.out i3.out z3.out o3.out ?_))
  generalize (w3.alloc (.cells (wv 8 zw).toArray 31)).setRow (P + 1 + 1) (wv 8 s).toArray = wb at *
  clear hz1 hz2 hC hA3 hA3r hA4 hA5 hAb hsz i1 i2 i3 o1 o2 o3 z1 z2 z3
  go_loopw [8] (fun i wr => ∃ k : Nat, k ≤ 64 ∧ i = .int .i64 k ∧ Hid (SB N P w wr M s (rnd M s k))) (fun i _ => 64 - (intOf i).toNat)
  case atStart => exact ⟨0, by omega, rfl, hS0⟩
  case round =>
    obtain ⟨k, hk, rfl, hS⟩ := hrel
    by_cases hlt : k < 64
    · have hst : Hid (rnd M s (k + 1) = rnd1 (rnd M s k) (kc k) (wd M k)) := rfl
      generalize rnd M s k = v at *
      have hkI : (k : Int) < 64 := by omega
      have c4 := hS.out.c8 4 (by omega)
      go_wp2_with fail
      go_quiet ((go_at_call 35; exact quietT _ _ (by decide)))
      obtain ⟨wa, hwwa⟩ : ∃ x, wr.drewN nq = x := ⟨_, rfl⟩
      have hwa : Hid (SB N P w wa M s v) := by rw [← hwwa]; exact hS.out.drew nq
      rw [hwwa]
      rw [x_S1]
      clear hwwa c4
      generalize hE1 : S1 (v 4) = e1 at *
      have hE1h := Lib.hid hE1
      clear hE1
      have c4 := hwa.out.c8 4 (by omega)
      have c5 := hwa.out.c8 5 (by omega)
      have c6 := hwa.out.c8 6 (by omega)
      have c7 := hwa.out.c8 7 (by omega)
      have hsg : IntKind.u32.signed = false := rfl
      have hmx : IntKind.u32.max = 4294967295 := rfl
      have ck := hwa.out.ck k hlt
      have cw := hwa.out.cw k hlt
      go_wp2_with fail
      go_quiet (fail)
      obtain ⟨wc, hwwc⟩ : ∃ x, wa.drewN nq = x := ⟨_, rfl⟩
      have hwc : Hid (SB N P w wc M s v) := by rw [← hwwc]; exact hwa.out.drew nq
      rw [hwwc]
      rw [x_ch, x_add4, x_add]
      clear hwwc c4 c5 c6 c7 ck cw hsg hmx
      generalize hE3 : v 7 + e1 + ch (v 4) (v 5) (v 6) + kc k + wd M k = e3 at *
      have hE3h := Lib.hid hE3
      clear hE3
      have c0 := hwc.out.c8 0 (by omega)
      go_wp2_with fail
      go_quiet ((go_at_call 35; exact quietT _ _ (by decide)))
      obtain ⟨we, hwwe⟩ : ∃ x, wc.drewN nq = x := ⟨_, rfl⟩
      have hwe : Hid (SB N P w we M s v) := by rw [← hwwe]; exact hwc.out.drew nq
      rw [hwwe]
      rw [x_S0]
      clear hwwe c0
      generalize hE4 : S0 (v 0) = e4 at *
      have hE4h := Lib.hid hE4
      clear hE4
      have c0 := hwe.out.c8 0 (by omega)
      have c1 := hwe.out.c8 1 (by omega)
      have c2 := hwe.out.c8 2 (by omega)
      have c3 := hwe.out.c8 3 (by omega)
      have c4 := hwe.out.c8 4 (by omega)
      have c5 := hwe.out.c8 5 (by omega)
      have c6 := hwe.out.c8 6 (by omega)
      have c7 := hwe.out.c8 7 (by omega)
      have f0 := hwe.out.fv.free 0
      have f1 := hwe.out.fv.free 1
      have f2 := hwe.out.fv.free 2
      have f3 := hwe.out.fv.free 3
      have f4 := hwe.out.fv.free 4
      have f5 := hwe.out.fv.free 5
      have f6 := hwe.out.fv.free 6
      have f7 := hwe.out.fv.free 7
      have hG : Hid (∀ z0 z4 : Int, z0 = (((e3 + (e4 + mj (v 0) (v 1) (v 2))).toNat : Nat) : Int) → z4 = (((v 3 + e3).toNat : Nat) : Int) → SB N P w ((((((((we.setCell ⟨P + 1 + 1, 0, none⟩ (.int .u32 z0)).setCell ⟨P + 1 + 1, 1, none⟩ (.int .u32 (((v 0).toNat : Nat) : Int))).setCell ⟨P + 1 + 1, 2, none⟩ (.int .u32 (((v 1).toNat : Nat) : Int))).setCell ⟨P + 1 + 1, 3, none⟩ (.int .u32 (((v 2).toNat : Nat) : Int))).setCell ⟨P + 1 + 1, 4, none⟩ (.int .u32 z4)).setCell ⟨P + 1 + 1, 5, none⟩ (.int .u32 (((v 4).toNat : Nat) : Int))).setCell ⟨P + 1 + 1, 6, none⟩ (.int .u32 (((v 5).toNat : Nat) : Int))).setCell ⟨P + 1 + 1, 7, none⟩ (.int .u32 (((v 6).toNat : Nat) : Int))) M s (rnd M s (k + 1))) := fun z0 z4 h0 h4 => by
        rw [hst.out]
        refine hwe.out.set8 _ _ _ _ _ _ _ _ _ (h0.trans ?_) rfl rfl rfl (h4.trans ?_) rfl rfl rfl
        · rw [← hE4h.out, ← hE3h.out, ← hE1h.out]; rfl
        · rw [← hE3h.out, ← hE1h.out]; rfl
      clear hE1h hE3h hE4h hst hwa hwc
      go_wp2
      go_roundw
      case rel => exact ⟨k + 1, by omega, by go_num, hG.out _ _ (x_t2 _ _ _ _ _) (x_add _ _)⟩
      case measure => simp [intOf]; omega
    · obtain rfl : k = 64 := by omega
      clear hlt hS0
      have hF2 : Hid (∀ w', Below N w w' → Po (.returned (.agg (wv 8 (plus s (rnd M s 64) 8)).toArray)) w') := fun w' h => by
        have e : wv 8 (plus s (rnd M s 64) 8) = wv 8 (comp M s) := wv_congr (fun i hi => if_pos hi)
        rw [e]; exact hFi.out w' h
      clear hFi
      generalize rnd M s 64 = v at *
      have hS0 := Lib.hid hS.out
      rw [← plus_zero s v] at hS0
      go_wp2
      obtain ⟨wo, rfl⟩ : ∃ wo : World, wo = wr := ⟨_, rfl⟩
      clear hS
      go_loopw [13] (fun i wr => ∃ k : Nat, k ≤ 8 ∧ i = .int .i64 k ∧ Hid (SB N P w wr M (plus s v k) v)) (fun i _ => 8 - (intOf i).toNat)
      case atStart => exact ⟨0, by omega, rfl, hS0⟩
      case round =>
        obtain ⟨k, hk, rfl, hS⟩ := hrel
        by_cases hlt : k < 8
        · have c1 := hS.out.cs k hlt
          have c2 := hS.out.c8 k hlt
          have f1 := hS.out.fs0.free k
          have hn := Lib.hid (hS.out.put k (plus s v k k + v k))
          rw [plus_step] at hn
          have hkI : (k : Int) < 8 := by omega
          generalize plus s v k k = x at *
          generalize hvk : v k = y at *
          have hvkh := Lib.hid hvk
          clear hvk
          go_wp2_with fail
          go_region
          have hn2 := (hn.out _ (x_add x y)).drew1
          have hn2h := Lib.hid hn2
          clear hn2 hn
          go_wp2
          go_roundw
          case rel => exact ⟨k + 1, by omega, by go_num, hn2h⟩
          case measure => simp [intOf]; omega
        · obtain rfl : k = 8 := by omega
          have h1 := Lib.hid hS.out.fs0
          have h2 := Lib.hid hS.out.fr
          have h3 := Lib.hid (hS.out.fr.row (wv 8 (plus s v 8)))
          have i1 := Lib.hid (i8 (plus s v 8))
          have o1 := Lib.hid (arr_all (wv_one 8 (plus s v 8)))
          have z1 : Hid ((wv 8 zw).toArray.size = (wv 8 (plus s v 8)).toArray.size) := by show _ = _; simp [wv_len]
          have hfin := Lib.hid (hF2.out _ (below_row hS.out.fb (Nat.le_succ N) (wv 8 (plus s v 8)).toArray))
          clear hF2 hS hS0 hlt
          generalize wv 8 (plus s v 8) = cs at *
          go_wp2_with (first | (refine wpList_load_row rfl 31 (.tmp 2) rfl N rfl 31 _ _ _ h1.out Tryd.underlying31 rfl i1.out ?_) | (refine wpList_store_row rfl 31 (.tmp 4) (.tmp 121) rfl (N + 1) _ rfl rfl 31 _ h2.out i1.out z1.out o1.out ?_))
          exact bodyPost_ret (v := .agg cs.toArray) (results_cell_row rfl _ _ (N + 1) 31 _ _ _ rfl h3.out Tryd.underlying31 rfl i1.out) rfl hfin.out
end Go.Proofs.YtnngadbmfdfmfaaDoor
