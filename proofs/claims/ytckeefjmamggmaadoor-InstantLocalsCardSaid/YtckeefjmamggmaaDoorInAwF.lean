/-
  Helper: the walk of awake.
-/
import Derived.Test.YtckeefjmamggmaaDoorInShp
namespace Go.Proofs.YtckeefjmamggmaaDoor
open Go.RowKit
set_option linter.unusedVariables false

theorem dd1 (n : Nat) : Lib.decDigits n = if n < 10 then [UInt8.ofNat (48 + n)] else Lib.decDigits (n / 10) ++ [UInt8.ofNat (48 + n % 10)] := by
  rw [Lib.decDigits]; split <;> rfl
theorem dd2026 : Lib.decDigits 2026 = [50, 48, 50, 54] := by
  rw [dd1 2026, if_neg (by omega), dd1 (2026 / 10), if_neg (by omega), dd1 (2026 / 10 / 10), if_neg (by omega), dd1 (2026 / 10 / 10 / 10), if_pos (by omega)]; rfl
theorem dd1969 : Lib.decDigits 1969 = [49, 57, 54, 57] := by
  rw [dd1 1969, if_neg (by omega), dd1 (1969 / 10), if_neg (by omega), dd1 (1969 / 10 / 10), if_neg (by omega), dd1 (1969 / 10 / 10 / 10), if_pos (by omega)]; rfl
theorem dd5e8 : Lib.decDigits 500000000 = [53, 48, 48, 48, 48, 48, 48, 48, 48] := by
  rw [dd1 500000000, if_neg (by omega), dd1 (500000000 / 10), if_neg (by omega), dd1 (500000000 / 10 / 10), if_neg (by omega), dd1 (500000000 / 10 / 10 / 10), if_neg (by omega), dd1 (500000000 / 10 / 10 / 10 / 10), if_neg (by omega), dd1 (500000000 / 10 / 10 / 10 / 10 / 10), if_neg (by omega), dd1 (500000000 / 10 / 10 / 10 / 10 / 10 / 10), if_neg (by omega), dd1 (500000000 / 10 / 10 / 10 / 10 / 10 / 10 / 10), if_neg (by omega), dd1 (500000000 / 10 / 10 / 10 / 10 / 10 / 10 / 10 / 10), if_pos (by omega)]; rfl
theorem dt (n : Nat) (h1 : ¬ n < 10) (h2 : n < 100) : Lib.decDigits n = [UInt8.ofNat (48 + n / 10), UInt8.ofNat (48 + n % 10)] := Lib.decDigits_two h1 h2
theorem dn9 : Lib.decDigits 9 = [57] := Lib.decDigits_one (by omega)
theorem rd1 : rd (⟨#[50, 48, 50, 54, 45, 49, 49, 45, 49, 54, 32, 49, 48, 58, 52, 54, 58, 51, 56, 46, 53, 48, 43, 48, 49, 58, 48, 48]⟩ : ByteArray).data.toList = (true, 3, [2026, 11, 16, 10, 46, 38, 1, 0], 500000000, 43) := by kernel_rfl
theorem rd2 : rd (⟨#[48, 57, 58, 52, 54, 58, 51, 56, 46, 48, 48, 48]⟩ : ByteArray).data.toList = (true, 2, [0, 0, 0, 9, 46, 38, 0, 0], 0, 0) := by kernel_rfl
theorem rd3 : rd (⟨#[48, 57, 58, 52, 54, 58, 51, 56]⟩ : ByteArray).data.toList = (true, 2, [0, 0, 0, 9, 46, 38, 0, 0], 0, 0) := by kernel_rfl
theorem rd4 : rd (⟨#[49, 57, 54, 57, 45, 49, 50, 45, 51, 49, 84, 50, 51, 58, 53, 57, 58, 53, 57, 46, 53, 90]⟩ : ByteArray).data.toList = (true, 3, [1969, 12, 31, 23, 59, 59, 0, 0], 500000000, 90) := by kernel_rfl
theorem lims (f : List Nat) (h0 : f.getD 0 0 ≤ 9999) (h1 : f.getD 1 0 ≤ 12) (h2 : f.getD 2 0 ≤ 31) (h3 : f.getD 3 0 ≤ 23) (h4 : f.getD 4 0 ≤ 59) (h5 : f.getD 5 0 ≤ 59) (h6 : f.getD 6 0 ≤ 23) (h7 : f.getD 7 0 ≤ 59) : ∀ k, k < 8 → f.getD k 0 ≤ lim k := fun k hk => by
  match k, hk with
  | 0, _ => exact h0
  | 1, _ => exact h1
  | 2, _ => exact h2
  | 3, _ => exact h3
  | 4, _ => exact h4
  | 5, _ => exact h5
  | 6, _ => exact h6
  | 7, _ => exact h7
  | k + 8, h => exact absurd h (by omega)
theorem ir1 : IR 3 [2026, 11, 16, 10, 46, 38, 1, 0] := ⟨lims _ (by decide) (by decide) (by decide) (by decide) (by decide) (by decide) (by decide) (by decide), .inr ⟨by decide, by decide, by decide, by decide, by decide, by decide⟩⟩
theorem ir2 : IR 2 [0, 0, 0, 9, 46, 38, 0, 0] := ⟨lims _ (by decide) (by decide) (by decide) (by decide) (by decide) (by decide) (by decide) (by decide), .inl rfl⟩
theorem ir3 : IR 3 [1969, 12, 31, 23, 59, 59, 0, 0] := ⟨lims _ (by decide) (by decide) (by decide) (by decide) (by decide) (by decide) (by decide) (by decide), .inr ⟨by decide, by decide, by decide, by decide, by decide, by decide⟩⟩
theorem mom1 : momF (rd (⟨#[50, 48, 50, 54, 45, 49, 49, 45, 49, 54, 32, 49, 48, 58, 52, 54, 58, 51, 56, 46, 53, 48, 43, 48, 49, 58, 48, 48]⟩ : ByteArray).data.toList) = (1794822398, 500000000, 0) := by
  rw [rd1]; unfold momF
  rw [if_pos ⟨rfl, rfl, by decide⟩, if_pos ir1]
  show (sec [2026, 11, 16, 10, 46, 38, 1, 0] 43, _, _) = _
  rw [show sec [2026, 11, 16, 10, 46, 38, 1, 0] 43 = 1794822398 by decide]
theorem mom3 : momF (rd (⟨#[49, 57, 54, 57, 45, 49, 50, 45, 51, 49, 84, 50, 51, 58, 53, 57, 58, 53, 57, 46, 53, 90]⟩ : ByteArray).data.toList) = (-1, 500000000, 0) := by
  rw [rd4]; unfold momF
  rw [if_pos ⟨rfl, rfl, by decide⟩, if_pos ir3]
  show (sec [1969, 12, 31, 23, 59, 59, 0, 0] 90, _, _) = _
  rw [show sec [1969, 12, 31, 23, 59, 59, 0, 0] 90 = -1 by decide]
theorem loc2 : locF (rd (⟨#[48, 57, 58, 52, 54, 58, 51, 56, 46, 48, 48, 48]⟩ : ByteArray).data.toList) = (2, [0, 0, 0, 9, 46, 38, 0, 0], 0, 0) := by
  rw [rd2]; unfold locF
  rw [if_pos ⟨rfl, rfl⟩, if_pos ir2]
theorem loc3 : locF (rd (⟨#[48, 57, 58, 52, 54, 58, 51, 56]⟩ : ByteArray).data.toList) = (2, [0, 0, 0, 9, 46, 38, 0, 0], 0, 0) := by
  rw [rd3]; unfold locF
  rw [if_pos ⟨rfl, rfl⟩, if_pos ir2]
theorem pd (n wd : Nat) : padL n wd = List.replicate (wd - (Lib.decDigits n).length) 48 ++ Lib.decDigits n := rfl
theorem can2 : mkB (canL 2 [0, 0, 0, 9, 46, 38, 0, 0] 0) = ⟨#[48, 57, 58, 52, 54, 58, 51, 56]⟩ := by
  have h : canL 2 [0, 0, 0, 9, 46, 38, 0, 0] 0 = Lib.join [padL 9 2, padL 46 2, padL 38 2] [58] ++ [] := rfl
  rw [h, pd, pd, pd, dn9, dt 46 (by omega) (by omega), dt 38 (by omega) (by omega)]
  rfl
theorem fr5 : frL 500000000 = [46, 53] := by
  unfold frL
  rw [if_neg (by decide), pd, dd5e8]
  rfl
theorem ofT1 : ofT 2026 11 16 35198 500000000 = ⟨#[50, 48, 50, 54, 45, 49, 49, 45, 49, 54, 84, 48, 57, 58, 52, 54, 58, 51, 56, 46, 53, 90]⟩ := by
  have h : canL 3 [2026, 11, 16, 35198 / 3600, 35198 / 60 % 60, 35198 % 60, 0, 0] 500000000 = Lib.join [padL 2026 4, padL 11 2, padL 16 2] [45] ++ [84] ++ Lib.join [padL 9 2, padL 46 2, padL 38 2] [58] ++ frL 500000000 := rfl
  unfold ofT
  rw [h, fr5, pd, pd, pd, pd, pd, pd, dn9, dd2026, dt 46 (by omega) (by omega), dt 38 (by omega) (by omega), dt 11 (by omega) (by omega), dt 16 (by omega) (by omega)]
  rfl
theorem ofT3 : ofT 1969 12 31 86399 500000000 = ⟨#[49, 57, 54, 57, 45, 49, 50, 45, 51, 49, 84, 50, 51, 58, 53, 57, 58, 53, 57, 46, 53, 90]⟩ := by
  have h : canL 3 [1969, 12, 31, 86399 / 3600, 86399 / 60 % 60, 86399 % 60, 0, 0] 500000000 = Lib.join [padL 1969 4, padL 12 2, padL 31 2] [45] ++ [84] ++ Lib.join [padL 23 2, padL 59 2, padL 59 2] [58] ++ frL 500000000 := rfl
  unfold ofT
  rw [h, fr5, pd, pd, pd, pd, pd, dd1969, dt 12 (by omega) (by omega), dt 31 (by omega) (by omega), dt 23 (by omega) (by omega), dt 59 (by omega) (by omega)]
  rfl
theorem of1 : OfR 1794822398 500000000 ⟨#[50, 48, 50, 54, 45, 49, 49, 45, 49, 54, 84, 48, 57, 58, 52, 54, 58, 51, 56, 46, 53, 90]⟩ 0 := by
  unfold OfR
  rw [if_neg (by decide), if_neg (by decide)]
  exact ⟨2026, 11, 16, 35198, ⟨by decide, by decide, by decide, by decide, by decide, by decide⟩, by decide, by decide, ofT1.symm, rfl⟩
theorem of3 : OfR (-1) 500000000 ⟨#[49, 57, 54, 57, 45, 49, 50, 45, 51, 49, 84, 50, 51, 58, 53, 57, 58, 53, 57, 46, 53, 90]⟩ 0 := by
  unfold OfR
  rw [if_neg (by decide), if_neg (by decide)]
  exact ⟨1969, 12, 31, 86399, ⟨by decide, by decide, by decide, by decide, by decide, by decide⟩, by decide, by decide, ofT3.symm, rfl⟩
theorem ins1 (t : ByteArray) (en : Int) (h : InsR (1794822398, 500000000, 0) t en) : t = ⟨#[50, 48, 50, 54, 45, 49, 49, 45, 49, 54, 84, 48, 57, 58, 52, 54, 58, 51, 56, 46, 53, 90]⟩ ∧ en = 0 :=
  h.det (by unfold InsR; rw [if_pos rfl]; exact of1)
theorem sec3 : secF ⟨#[49, 57, 54, 57, 45, 49, 50, 45, 51, 49, 84, 50, 51, 58, 53, 57, 58, 53, 57, 46, 53, 90]⟩ = (-1, 500000000, 0) := by
  unfold secF
  rw [mom3]; unfold secG
  rw [if_pos ⟨rfl, of3⟩]
theorem shp3 : shpF (2, [0, 0, 0, 9, 46, 38, 0, 0], 0, 0) ⟨#[48, 57, 58, 52, 54, 58, 51, 56]⟩ = 2 := by
  unfold shpF
  rw [if_pos ⟨rfl, can2⟩]
theorem locT2 : locT (2, [0, 0, 0, 9, 46, 38, 0, 0], 0, 0) = ⟨#[48, 57, 58, 52, 54, 58, 51, 56]⟩ := by
  unfold locT
  rw [if_pos rfl]; exact can2
def BoolW (b : Bool) (w : World) (e : Ending) (w' : World) : Prop := e = .returned (.bool b) ∧ Below w.heap.size w w'
set_option maxRecDepth 100000 in
set_option maxHeartbeats 8000000 in
theorem awake_any (w : World) (hT : Tabs w) : Calls Tryd.prog 6 #[] w (BoolW true w) := by
  have H1 : Hid (∀ W, Tabs W → Calls Tryd.prog 7 #[.string ⟨#[50, 48, 50, 54, 45, 49, 49, 45, 49, 54, 32, 49, 48, 58, 52, 54, 58, 51, 56, 46, 53, 48, 43, 48, 49, 58, 48, 48]⟩] W fun e w' => e = .returned (.tuple #[.string ⟨#[50, 48, 50, 54, 45, 49, 49, 45, 49, 54, 84, 48, 57, 58, 52, 54, 58, 51, 56, 46, 53, 90]⟩, .int .i64 0]) ∧ Below W.heap.size W w') := fun W hW => (Instant_any ⟨#[50, 48, 50, 54, 45, 49, 49, 45, 49, 54, 32, 49, 48, 58, 52, 54, 58, 51, 56, 46, 53, 48, 43, 48, 49, 58, 48, 48]⟩ W hW (by show (28:Nat) ≤ _; omega)).mono fun e w' ⟨t, en, h, h1, h2⟩ => by
    rw [mom1] at h
    obtain ⟨rfl, rfl⟩ := ins1 t en h
    exact ⟨h1, h2⟩
  have H2 : Hid (∀ W, Tabs W → Calls Tryd.prog 9 #[.string ⟨#[48, 57, 58, 52, 54, 58, 51, 56, 46, 48, 48, 48]⟩] W fun e w' => e = .returned (.tuple #[.string ⟨#[48, 57, 58, 52, 54, 58, 51, 56]⟩, .int .i64 0]) ∧ Below W.heap.size W w') := fun W hW => (Local_any ⟨#[48, 57, 58, 52, 54, 58, 51, 56, 46, 48, 48, 48]⟩ W hW (by show (12:Nat) ≤ _; omega)).mono fun e w' ⟨h1, h2⟩ => by
    rw [loc2, locT2] at h1
    exact ⟨h1, h2⟩
  have H3 : Hid (∀ W, Tabs W → Calls Tryd.prog 13 #[.string ⟨#[49, 57, 54, 57, 45, 49, 50, 45, 51, 49, 84, 50, 51, 58, 53, 57, 58, 53, 57, 46, 53, 90]⟩] W fun e w' => e = .returned (.tuple #[.int .i64 (-1), .int .i64 500000000, .int .i64 0]) ∧ Below W.heap.size W w') := fun W hW => (Seconds_any ⟨#[49, 57, 54, 57, 45, 49, 50, 45, 51, 49, 84, 50, 51, 58, 53, 57, 58, 53, 57, 46, 53, 90]⟩ W hW (by show (22:Nat) ≤ _; omega)).mono fun e w' ⟨h1, h2⟩ => by
    rw [sec3] at h1
    exact ⟨h1, h2⟩
  have H4 : Hid (∀ W, Tabs W → Calls Tryd.prog 12 #[.string ⟨#[48, 57, 58, 52, 54, 58, 51, 56]⟩] W fun e w' => e = .returned (.int .i64 2) ∧ Below W.heap.size W w') := fun W hW => (Shape_any ⟨#[48, 57, 58, 52, 54, 58, 51, 56]⟩ W hW (by show (8:Nat) ≤ _; omega)).mono fun e w' ⟨h1, h2⟩ => by
    rw [loc3, shp3] at h1
    exact ⟨h1, h2⟩
  have HT : Hid (∀ W, Below w.heap.size w W → Tabs W) := fun W hb => hT.below hb hT.1
  have HF : Hid (∀ w', Below w.heap.size w w' → BoolW true w (.returned (.bool true)) w') := fun w' h => ⟨rfl, h⟩
  generalize BoolW true w = Po at *
  clear hT
  go_enter Tryd.func6, Tryd.ntmps6
  go_wp2_with fail
  refine (H1.out _ (HT.out _ (Below.refl _ _))).mono ?_
  rintro e w1 ⟨rfl, hb1⟩
  have hb1h := Lib.hid hb1
  clear hb1
  go_wp2_with fail
  refine (H2.out _ (HT.out _ hb1h.out)).mono ?_
  rintro e w2 ⟨rfl, hb2⟩
  have hb2h := bt hb1h hb2
  clear hb2
  go_wp2_with fail
  refine (H3.out _ (HT.out _ hb2h.out)).mono ?_
  rintro e w3 ⟨rfl, hb3⟩
  have hb3h := bt hb2h hb3
  clear hb3
  go_wp2_with fail
  refine (H4.out _ (HT.out _ hb3h.out)).mono ?_
  rintro e w4 ⟨rfl, hb4⟩
  have hfin := Lib.hid (HF.out _ (bt hb3h hb4).out)
  clear hb4
  go_wp2
  first | exact hfin.out | (go_ret; exact hfin.out)
end Go.Proofs.YtckeefjmamggmaaDoor
