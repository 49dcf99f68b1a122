/-
  Helper: the walk of PositionAdds: three variables that hold lines, and a loop over the lines of the appended source.
-/
import Derived.Test.YtmoljdgalonlpabDoorPosAdd
import Derived.Deep.RegionHeld3
import Derived.IntWalk
import Derived.Lib.Hide
namespace Go.Proofs.YtmoljdgalonlpabDoor
open Go.RowKit
set_option linter.unusedVariables false

/-- what stays of the three variables' boxes (blocks k, k + 1, k + 1 + 1) and of what they lead to -/
def T3 (w0 : World) (k : Nat) (ny nz : Nat) (fy fz : Nat → Nat) (ay az : Option Addr) (w : World) : Prop := Rd w ay ny fy ∧ Rd w az nz fz ∧ Below k w0 w ∧ k + 1 + 1 < w.heap.size
def S3 (w0 : World) (k : Nat) (x y z : Value) (sx sy sz : Value) (ny nz : Nat) (fy fz : Nat → Nat) (ay az : Option Addr) (w : World) : Prop :=
  w.cell? ⟨k, 0, none⟩ = some x ∧ w.cell? ⟨k, 1, none⟩ = some sx ∧ w.cell? ⟨k + 1, 0, none⟩ = some y ∧ w.cell? ⟨k + 1, 1, none⟩ = some sy ∧ w.cell? ⟨k + 1 + 1, 0, none⟩ = some z ∧ w.cell? ⟨k + 1 + 1, 1, none⟩ = some sz ∧ T3 w0 k ny nz fy fz ay az w
theorem S3.keep {w0 : World} {k : Nat} {x y z sx sy sz : Value} {ny nz : Nat} {fy fz : Nat → Nat} {ay az : Option Addr} {w w' : World} (h : S3 w0 k x y z sx sy sz ny nz fy fz ay az w) (hb : Below w.heap.size w w') : S3 w0 k x y z sx sy sz ny nz fy fz ay az w' := by
  obtain ⟨h0, h1, h2, h3, h4, h5, hy, hz, hk, hs⟩ := h
  refine ⟨?_, ?_, ?_, ?_, ?_, ?_, hy.below hb, hz.below hb, hk.trans (hb.mono (by omega)), Nat.lt_of_lt_of_le hs hb.size⟩
  · rw [hb.cell (by show k < _; omega)]; exact h0
  · rw [hb.cell (by show k < _; omega)]; exact h1
  · rw [hb.cell (by show k + 1 < _; omega)]; exact h2
  · rw [hb.cell (by show k + 1 < _; omega)]; exact h3
  · rw [hb.cell (by show k + 1 + 1 < _; omega)]; exact h4
  · rw [hb.cell (by show k + 1 + 1 < _; omega)]; exact h5
theorem S3.drew {w0 : World} {k : Nat} {x y z sx sy sz : Value} {ny nz : Nat} {fy fz : Nat → Nat} {ay az : Option Addr} {w : World} (h : S3 w0 k x y z sx sy sz ny nz fy fz ay az w) : S3 w0 k x y z sx sy sz ny nz fy fz ay az w.drew := h.keep ((Below.refl _ w).drew)
theorem S3.new {w : World} {x y z : ByteArray} {sx : Value} {ny nz cy cz : Nat} {fy fz : Nat → Nat} {ay az : Option Addr} {t : TypeId} (hy : Rd w ay ny fy) (hz : Rd w az nz fz) :
    S3 w w.heap.size (.string x) (.string y) (.string z) sx (.slice ay ny cy) (.slice az nz cz) ny nz fy fz ay az (((w.alloc (.cells #[.string x, sx] t)).alloc (.cells #[.string y, .slice ay ny cy] t)).alloc (.cells #[.string z, .slice az nz cz] t)) := by
  refine ⟨?_, ?_, ?_, ?_, ?_, ?_, ((hy.alloc _).alloc _).alloc _, ((hz.alloc _).alloc _).alloc _, (((Below.refl _ w).alloc (Nat.le_refl _) _).alloc (by simp) _).alloc (by simp; omega) _, by simp⟩
  · rw [World.cell?_alloc_past _ _ _ (by simp; omega), World.cell?_alloc_past _ _ _ (by simp), World.cell?_alloc_at _ _ _ _ rfl]; rfl
  · rw [World.cell?_alloc_past _ _ _ (by simp; omega), World.cell?_alloc_past _ _ _ (by simp), World.cell?_alloc_at _ _ _ _ rfl]; rfl
  · rw [World.cell?_alloc_past _ _ _ (by simp), World.cell?_alloc_at _ _ _ _ (by simp)]; rfl
  · rw [World.cell?_alloc_past _ _ _ (by simp), World.cell?_alloc_at _ _ _ _ (by simp)]; rfl
  · rw [World.cell?_alloc_at _ _ _ _ (by simp)]; rfl
  · rw [World.cell?_alloc_at _ _ _ _ (by simp)]; rfl

theorem big300 (a : ByteArray) (h : ¬ a.size ≤ 300) : (300 : Int) < a.size := by omega

set_option maxRecDepth 100000 in
set_option maxHeartbeats 4000000 in
theorem walkPositionAdds (w : World) (a : ByteArray) (ha : a.size ≤ maxLen) (b : ByteArray) (hb : b.size ≤ maxLen) :
    Calls Tryd.prog 4 #[.string a, .string b] w fun e w' => e = .returned (.bool true) ∧ Below w.heap.size w w' := by
  unfold maxLen at ha hb
  by_cases hbig : a.size ≤ 300 ∧ b.size ≤ 300
  · obtain ⟨h1, h2⟩ := hbig
    have HX := Lib.hid (fun w => of_rd (a ++ ⟨#[10]⟩) w (by rw [al_size]; omega))
    have HY := Lib.hid (fun w => of_rd b w (by omega))
    have HZ := Lib.hid (fun w => of_rd (js a b) w (by rw [js_size]; omega))
    go_enter Tryd.func4, Tryd.ntmps4
    go_wp2_with fail
    refine (HX.out _).mono ?_
    rintro e w1 ⟨ax, cx, rfl, hrx, hb1⟩
    go_wp2_with fail
    refine (HY.out _).mono ?_
    rintro e w2 ⟨ay, cy, rfl, hry, hb2⟩
    go_wp2_with fail
    refine (HZ.out _).mono ?_
    rintro e w3 ⟨az, cz, rfl, hrz, hb3⟩
    have hry3 := hry.below hb3
    rw [js_nln] at hrz
    rw [js_nln, al_nln a b]
    have hw3 : Below w.heap.size w w3 := (hb1.trans (hb2.mono hb1.size)).trans (hb3.mono (Nat.le_trans hb1.size hb2.size))
    have hnb := nln_le b
    have hnj : Ms a b + nln b ≤ a.size + 1 + b.size := by have := nln_le (js a b); rw [js_nln, js_size] at this; exact this
    go_wp2_with fail
    have hS := S3.new (sx := .slice ax (Ms a b) cx) (x := a ++ ⟨#[10]⟩) (y := b) (z := js a b) (cy := cy) (cz := cz) (t := 24) hry3 hrz
    generalize ((w3.alloc (.cells #[.string (a ++ ⟨#[10]⟩), .slice ax (Ms a b) cx] 24)).alloc (.cells #[.string b, .slice ay (nln b) cy] 24)).alloc (.cells #[.string (js a b), .slice az (Ms a b + nln b) cz] 24) = W at hS ⊢
    have e1 : IntKind.i64.wrap (Ms a b : Int) = (Ms a b : Int) := IntWalk.i64_in _ (by omega)
    have e3 : ((Ms a b : Int) + (nln b : Int) + 1 != (Ms a b : Int) + ((nln b : Int) + 1)) = false := by rw [bne_eq_false_iff_eq]; omega
    have e2 : IntKind.i64.wrap ((Ms a b : Int) + ((nln b : Int) + 1)) = (Ms a b : Int) + ((nln b : Int) + 1) := IntWalk.i64_in _ (by omega)
    have hcnt := Lib.hid (fun s a' n cap w hn => count_any s a' n cap w hn)
    have hN1 : Ms a b ≤ 100000 := by omega
    have hN2 : nln b ≤ 100000 := by omega
    have hN3 : Ms a b + nln b ≤ 100000 := by omega
    generalize hxs : a ++ (⟨#[10]⟩ : ByteArray) = xs at *
    have hS0 : W.cell? ⟨w3.heap.size, 0, none⟩ = some (.string xs) ∧ W.cell? ⟨w3.heap.size, 1, none⟩ = some (.slice ax (Ms a b) cx) ∧ W.cell? ⟨w3.heap.size + 1, 0, none⟩ = some (.string b) ∧ W.cell? ⟨w3.heap.size + 1, 1, none⟩ = some (.slice ay (nln b) cy) ∧ W.cell? ⟨w3.heap.size + 1 + 1, 0, none⟩ = some (.string (js a b)) ∧ W.cell? ⟨w3.heap.size + 1 + 1, 1, none⟩ = some (.slice az (Ms a b + nln b) cz) ∧ T3 w3 w3.heap.size (nln b) (Ms a b + nln b) (nlf b) (nlf (js a b)) ay az W := hS
    clear hS
    go_region_held3 (fun w' => w'.cell? ⟨w3.heap.size, 0, none⟩ = some (.string xs) ∧ w'.cell? ⟨w3.heap.size, 1, none⟩ = some (.slice ax (Ms a b) cx) ∧ w'.cell? ⟨w3.heap.size + 1, 0, none⟩ = some (.string b) ∧ w'.cell? ⟨w3.heap.size + 1, 1, none⟩ = some (.slice ay (nln b) cy) ∧ w'.cell? ⟨w3.heap.size + 1 + 1, 0, none⟩ = some (.string (js a b)) ∧ w'.cell? ⟨w3.heap.size + 1 + 1, 1, none⟩ = some (.slice az (Ms a b + nln b) cz) ∧ T3 w3 w3.heap.size (nln b) (Ms a b + nln b) (nlf b) (nlf (js a b)) ay az w') (first | assumption | exact S3.drew (by assumption) | exact S3.keep (by assumption) (by assumption))
      (first | (go_at_call 9; refine (hcnt.out _ _ _ _ _ ?_).mono ?_; (first | exact hN1 | exact hN2 | exact hN3); rintro e w' ⟨rfl, hbb⟩))
    rename_i hSz
    have hSz2 := Lib.hid hSz
    clear hSz hS0
    obtain ⟨x0, x1, y0, y1, z0, z1, hT⟩ := hSz2.out
    have HT := Lib.hid hT
    clear hT hSz2
    have HYL := Lib.hid (fun w k hk hr => line_ext b ay cy w (by omega) hr k hk)
    have HYO := Lib.hid (fun w k hk hr => offset_col0 b ay cy w (by omega) hr k hk)
    have hjs : (js a b).size ≤ 100000 := by rw [js_size]; omega
    have HZL : Hid (∀ w k, k ≤ nln b → Rd w az (Ms a b + nln b) (nlf (js a b)) → Calls Tryd.prog 6 #[.agg #[.string (js a b), .slice az (Ms a b + nln b) cz], .int .i64 ((Ms a b : Int) + (k : Int))] w fun e w' => e = .returned (.tuple #[.string (b.extract (begS b k) (rfin b k)), .int .i64 0]) ∧ Below w.heap.size w w') := fun w k hk hr => by
      have h := line_ext (js a b) az cz w hjs (by rw [js_nln]; exact hr) (Ms a b + k) (by rw [js_nln]; omega)
      rw [js_nln, js_line a b k hk] at h
      exact h
    have HZO : Hid (∀ w k, k ≤ nln b → Rd w az (Ms a b + nln b) (nlf (js a b)) → Calls Tryd.prog 7 #[.agg #[.string (js a b), .slice az (Ms a b + nln b) cz], .int .i64 ((Ms a b : Int) + (k : Int)), .int .i64 0] w fun e w' => e = .returned (.tuple #[.int .i64 ((begS b k : Int) + (a.size : Int) + 1), .int .i64 0]) ∧ Below w.heap.size w w') := fun w k hk hr => by
      have h := offset_col0 (js a b) az cz w hjs (by rw [js_nln]; exact hr) (Ms a b + k) (by rw [js_nln]; omega)
      rw [js_nln, js_beg a b k hk, show ((a.size + 1 + begS b k : Nat) : Int) = (begS b k : Int) + (a.size : Int) + 1 from by omega] at h
      exact h
    clear e2 e3
    go_wp2_with fail
    refine (hcnt.out _ _ _ _ _ hN2).mono ?_
    rintro e w5 ⟨rfl, h5⟩
    have hS5 : S3 w3 w3.heap.size (.string xs) (.string b) (.string (js a b)) (.slice ax (Ms a b) cx) (.slice ay (nln b) cy) (.slice az (Ms a b + nln b) cz) (nln b) (Ms a b + nln b) (nlf b) (nlf (js a b)) ay az w' := ⟨x0, x1, y0, y1, z0, z1, HT.out⟩
    have hS6 := Lib.hid (hS5.keep h5)
    clear x0 x1 y0 y1 z0 z1 HT hS5 h5
    go_wp2_with fail
    go_loopw [47] (fun c wr => ∃ k : Nat, k ≤ nln b + 1 ∧ c = .int .i64 k ∧ Hid (wr.cell? ⟨w3.heap.size, 0, none⟩ = some (.string xs) ∧ wr.cell? ⟨w3.heap.size, 1, none⟩ = some (.slice ax (Ms a b) cx) ∧ wr.cell? ⟨w3.heap.size + 1, 0, none⟩ = some (.string b) ∧ wr.cell? ⟨w3.heap.size + 1, 1, none⟩ = some (.slice ay (nln b) cy) ∧ wr.cell? ⟨w3.heap.size + 1 + 1, 0, none⟩ = some (.string (js a b)) ∧ wr.cell? ⟨w3.heap.size + 1 + 1, 1, none⟩ = some (.slice az (Ms a b + nln b) cz) ∧ T3 w3 w3.heap.size (nln b) (Ms a b + nln b) (nlf b) (nlf (js a b)) ay az wr)) (fun c _ => nln b + 1 - (intOf c).toNat)
    case atStart => exact ⟨0, Nat.zero_le _, rfl, hS6.out⟩
    case round =>
      clear hS6
      obtain ⟨k, hk, rfl, HS⟩ := hrel
      by_cases hlt : k < nln b + 1
      · have hkb : k ≤ nln b := by omega
        have e4 : IntKind.i64.wrap ((Ms a b : Int) + (k : Int)) = (Ms a b : Int) + (k : Int) := IntWalk.i64_in _ (by omega)
        have hbk : begS b k ≤ 300 := by have := begS_finS b k hkb; have := finS_le b k; omega
        have hYL := Lib.hid (fun w hr => HYL.out w k hkb hr)
        have hYO := Lib.hid (fun w hr => HYO.out w k hkb hr)
        have hZL := Lib.hid (fun w hr => HZL.out w k hkb hr)
        have hZO := Lib.hid (fun w hr => HZO.out w k hkb hr)
        generalize begS b k = bk at *
        generalize b.extract bk (rfin b k) = lk at *
        obtain ⟨x0, x1, y0, y1, z0, z1, hT⟩ := HS.out
        have HT := Lib.hid hT
        clear hT HS
        go_wp2_with fail
        refine (hYL.out _ HT.out.1).mono ?_
        rintro e w6 ⟨rfl, h6⟩
        have hS7 : S3 w3 w3.heap.size (.string xs) (.string b) (.string (js a b)) (.slice ax (Ms a b) cx) (.slice ay (nln b) cy) (.slice az (Ms a b + nln b) cz) (nln b) (Ms a b + nln b) (nlf b) (nlf (js a b)) ay az wr := ⟨x0, x1, y0, y1, z0, z1, HT.out⟩
        have hS8 : w6.cell? ⟨w3.heap.size, 0, none⟩ = some (.string xs) ∧ w6.cell? ⟨w3.heap.size, 1, none⟩ = some (.slice ax (Ms a b) cx) ∧ w6.cell? ⟨w3.heap.size + 1, 0, none⟩ = some (.string b) ∧ w6.cell? ⟨w3.heap.size + 1, 1, none⟩ = some (.slice ay (nln b) cy) ∧ w6.cell? ⟨w3.heap.size + 1 + 1, 0, none⟩ = some (.string (js a b)) ∧ w6.cell? ⟨w3.heap.size + 1 + 1, 1, none⟩ = some (.slice az (Ms a b + nln b) cz) ∧ T3 w3 w3.heap.size (nln b) (Ms a b + nln b) (nlf b) (nlf (js a b)) ay az w6 := hS7.keep h6
        clear x0 x1 y0 y1 z0 z1 HT hS7 h6
        have HS8 := Lib.hid hS8
        clear hS8
        go_wp2_with fail
        have hS8 := HS8.out
        clear HS8
        go_region_held3 (fun w' => w'.cell? ⟨w3.heap.size, 0, none⟩ = some (.string xs) ∧ w'.cell? ⟨w3.heap.size, 1, none⟩ = some (.slice ax (Ms a b) cx) ∧ w'.cell? ⟨w3.heap.size + 1, 0, none⟩ = some (.string b) ∧ w'.cell? ⟨w3.heap.size + 1, 1, none⟩ = some (.slice ay (nln b) cy) ∧ w'.cell? ⟨w3.heap.size + 1 + 1, 0, none⟩ = some (.string (js a b)) ∧ w'.cell? ⟨w3.heap.size + 1 + 1, 1, none⟩ = some (.slice az (Ms a b + nln b) cz) ∧ T3 w3 w3.heap.size (nln b) (Ms a b + nln b) (nlf b) (nlf (js a b)) ay az w') (first | assumption | exact S3.drew (by assumption) | exact S3.keep (by assumption) (by assumption))
          (first | (go_at_call 9; refine (hcnt.out _ _ _ _ _ ?_).mono ?_; (first | exact hN1 | exact hN2 | exact hN3); rintro e w' ⟨rfl, hbb⟩) | (go_at_call 6; refine (hZL.out _ ?_).mono ?_; exact (by assumption : S3 _ _ _ _ _ _ _ _ _ _ _ _ _ _ _).2.2.2.2.2.2.2.1; rintro e w' ⟨rfl, hbb⟩))
        rename_i hSz
        obtain ⟨x0, x1, y0, y1, z0, z1, hT⟩ := hSz
        have HT := Lib.hid hT
        clear hT hS8
        go_wp2_with fail
        refine (hYO.out _ HT.out.1).mono ?_
        rintro e w8 ⟨rfl, h6⟩
        have hS7 : S3 w3 w3.heap.size (.string xs) (.string b) (.string (js a b)) (.slice ax (Ms a b) cx) (.slice ay (nln b) cy) (.slice az (Ms a b + nln b) cz) (nln b) (Ms a b + nln b) (nlf b) (nlf (js a b)) ay az w' := ⟨x0, x1, y0, y1, z0, z1, HT.out⟩
        have hS9 : w8.cell? ⟨w3.heap.size, 0, none⟩ = some (.string xs) ∧ w8.cell? ⟨w3.heap.size, 1, none⟩ = some (.slice ax (Ms a b) cx) ∧ w8.cell? ⟨w3.heap.size + 1, 0, none⟩ = some (.string b) ∧ w8.cell? ⟨w3.heap.size + 1, 1, none⟩ = some (.slice ay (nln b) cy) ∧ w8.cell? ⟨w3.heap.size + 1 + 1, 0, none⟩ = some (.string (js a b)) ∧ w8.cell? ⟨w3.heap.size + 1 + 1, 1, none⟩ = some (.slice az (Ms a b + nln b) cz) ∧ T3 w3 w3.heap.size (nln b) (Ms a b + nln b) (nlf b) (nlf (js a b)) ay az w8 := hS7.keep h6
        clear x0 x1 y0 y1 z0 z1 HT hS7 h6
        have HS9 := Lib.hid hS9
        clear hS9
        go_wp2_with fail
        have hS9 := HS9.out
        clear HS9
        go_region_held3 (fun w' => w'.cell? ⟨w3.heap.size, 0, none⟩ = some (.string xs) ∧ w'.cell? ⟨w3.heap.size, 1, none⟩ = some (.slice ax (Ms a b) cx) ∧ w'.cell? ⟨w3.heap.size + 1, 0, none⟩ = some (.string b) ∧ w'.cell? ⟨w3.heap.size + 1, 1, none⟩ = some (.slice ay (nln b) cy) ∧ w'.cell? ⟨w3.heap.size + 1 + 1, 0, none⟩ = some (.string (js a b)) ∧ w'.cell? ⟨w3.heap.size + 1 + 1, 1, none⟩ = some (.slice az (Ms a b + nln b) cz) ∧ T3 w3 w3.heap.size (nln b) (Ms a b + nln b) (nlf b) (nlf (js a b)) ay az w') (first | assumption | exact S3.drew (by assumption) | exact S3.keep (by assumption) (by assumption))
          (first | (go_at_call 9; refine (hcnt.out _ _ _ _ _ ?_).mono ?_; (first | exact hN1 | exact hN2 | exact hN3); rintro e w9 ⟨rfl, hbb⟩) | (go_at_call 7; refine (hZO.out _ ?_).mono ?_; exact (by assumption : S3 _ _ _ _ _ _ _ _ _ _ _ _ _ _ _).2.2.2.2.2.2.2.1; rintro e w9 ⟨rfl, hbb⟩))
        rename_i hSz
        have HSz : Hid (w9.cell? ⟨w3.heap.size, 0, none⟩ = some (.string xs) ∧ w9.cell? ⟨w3.heap.size, 1, none⟩ = some (.slice ax (Ms a b) cx) ∧ w9.cell? ⟨w3.heap.size + 1, 0, none⟩ = some (.string b) ∧ w9.cell? ⟨w3.heap.size + 1, 1, none⟩ = some (.slice ay (nln b) cy) ∧ w9.cell? ⟨w3.heap.size + 1 + 1, 0, none⟩ = some (.string (js a b)) ∧ w9.cell? ⟨w3.heap.size + 1 + 1, 1, none⟩ = some (.slice az (Ms a b + nln b) cz) ∧ T3 w3 w3.heap.size (nln b) (Ms a b + nln b) (nlf b) (nlf (js a b)) ay az w9) := hSz
        clear hSz hS9
        have e5 : ((bk : Int) + (a.size : Int) + 1 != (bk : Int) + (a.size : Int) + 1) = false := by simp
        go_wp2_with fail
        go_roundw
        case rel => exact ⟨k + 1, by omega, by go_num, HSz.out⟩
        case measure => simp [intOf]; omega
      · obtain rfl : k = nln b + 1 := by omega
        go_wp2_with fail
        refine (awake_any _).mono ?_
        rintro e w6 ⟨rfl, h6⟩
        go_wp2_with fail
        go_ret
        refine ⟨rfl, hw3.trans ?_⟩
        have hb5 : Below w3.heap.size w3 wr := HS.out.2.2.2.2.2.2.2.2.1
        refine (hb5.mono hw3.size).trans (h6.mono ?_)
        have := hb5.size
        have := hw3.size
        omega
  · have hgt : (300 : Int) < a.size ∨ (300 : Int) < b.size := by omega
    clear hbig
    by_cases hga : (300 : Int) < a.size
    · go_enter Tryd.func4, Tryd.ntmps4
      go_wp2_with fail
      refine (awake_any _).mono ?_
      rintro e w1 ⟨rfl, hb⟩
      go_wp2_with fail
      go_ret
      exact ⟨rfl, hb⟩
    · have hgb : (300 : Int) < b.size := by omega
      go_enter Tryd.func4, Tryd.ntmps4
      go_wp2_with fail
      refine (awake_any _).mono ?_
      rintro e w1 ⟨rfl, hb⟩
      go_wp2_with fail
      go_ret
      exact ⟨rfl, hb⟩
end Go.Proofs.YtmoljdgalonlpabDoor
