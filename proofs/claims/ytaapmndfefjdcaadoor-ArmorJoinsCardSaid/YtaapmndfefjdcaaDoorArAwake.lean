/-
  Helper: the walk of awake.
-/
import Derived.Test.YtaapmndfefjdcaaDoorArUnb
import Derived.Test.YtaapmndfefjdcaaDoorArFold
namespace Go.Proofs.YtaapmndfefjdcaaDoor
open Go.RowKit
set_option linter.unusedVariables false

theorem aw_hex : HexOk [48, 48, 102, 102, 49, 48] := ⟨rfl, by decide +kernel⟩
theorem aw_hex2 : unhexA [48, 48, 102, 102, 49, 48] = [0, 255, 16] := by decide +kernel
theorem aw_b64 : b64A (bytesOf (stream SX 6 [84, 87, 69, 61])) = [84, 87, 69, 61] := by decide +kernel
theorem aw_b642 : bytesOf (stream SX 6 [84, 87, 69, 61]) = [77, 97] := by decide +kernel
theorem aw_fold : pcs 2 [97, 98, 99, 100, 101] = [[97, 98], [99, 100], [101]] := by
  rw [pcs_more _ _ (by decide) (by decide)]
  show [97, 98] :: pcs 2 [99, 100, 101] = _
  rw [pcs_more _ _ (by decide) (by decide)]
  show [97, 98] :: [99, 100] :: pcs 2 [101] = _
  rw [pcs_one _ _ (by decide) (by decide)]
theorem ba_ext (a b : ByteArray) (h : a.data.toList = b.data.toList) : a = b := by
  obtain ⟨⟨x⟩⟩ := a
  obtain ⟨⟨y⟩⟩ := b
  simp at h
  rw [h]
theorem awake_unhex (w : World) : Calls Tryd.prog 11 #[.string ⟨#[48, 48, 102, 102, 49, 48]⟩] w fun e w' => e = .returned (.tuple #[.string ⟨#[0, 255, 16]⟩, .int .i64 0]) ∧ Below w.heap.size w w' := by
  refine (unhex_any ⟨#[48, 48, 102, 102, 49, 48]⟩ w (by decide)).mono ?_
  intro e w' h
  have h2 := h.1 aw_hex
  have h3 : unhexA (⟨#[48, 48, 102, 102, 49, 48]⟩ : ByteArray).data.toList = [0, 255, 16] := aw_hex2
  rw [h3] at h2
  exact h2
theorem awake_unb (w : World) : Calls Tryd.prog 15 #[.string ⟨#[84, 87, 69, 61]⟩] w fun e w' => e = .returned (.tuple #[.string ⟨#[77, 97]⟩, .int .i64 0]) ∧ Below w.heap.size w w' := by
  refine (unb_any ⟨#[84, 87, 69, 61]⟩ w (by decide)).mono ?_
  intro e w' h
  have h2 := h.1 aw_b64
  have h3 : bytesOf (stream SX 6 (⟨#[84, 87, 69, 61]⟩ : ByteArray).data.toList) = [77, 97] := aw_b642
  rw [h3] at h2
  exact h2
theorem awake_fold (w : World) : Calls Tryd.prog 19 #[.string ⟨#[97, 98, 99, 100, 101]⟩, .int .i64 2] w fun e w' => (∃ b c, e = .returned (.tuple #[.slice (some ⟨b, 0, none⟩) 3 c, .int .i64 0]) ∧ b < w'.heap.size ∧ w'.cell? ⟨b, 2, none⟩ = some (.string ⟨#[101]⟩)) ∧ Below w.heap.size w w' := by
  refine (fold_ok ⟨#[97, 98, 99, 100, 101]⟩ 2 w (by omega) (by omega) (by decide)).mono ?_
  rintro e w' ⟨v, xs, rfl, hx, hown, hb⟩
  have hx2 : xs.map (fun c : ByteArray => c.data.toList) = [[97, 98], [99, 100], [101]] := hx.trans aw_fold
  have hl : xs.length = 3 := by have := congrArg List.length hx2; simpa using this
  obtain ⟨x0, x1, x2, rfl⟩ : ∃ x0 x1 x2, xs = [x0, x1, x2] := by
    match xs, hl with
    | [x0, x1, x2], _ => exact ⟨x0, x1, x2, rfl⟩
  obtain ⟨a, cap, rfl, hn, hcap, hsb, _, hnone, _⟩ := sb_of_row hown
  rcases hsb with h | ⟨b, rfl, hlt, hc⟩
  · cases h
  · simp at hx2
    have e2 : x2 = ⟨#[101]⟩ := ba_ext _ _ hx2.2.2
    refine ⟨⟨b, cap, rfl, hlt, ?_⟩, hb⟩
    rw [← e2]
    exact hc 2 x2 rfl
set_option maxRecDepth 100000 in
set_option maxHeartbeats 2000000 in
theorem awake_any (w : World) : Calls Tryd.prog 10 #[] w fun e w' => e = .returned (.bool true) ∧ Below w.heap.size w w' := by
  have H1 := Lib.hid awake_unhex
  have H2 := Lib.hid awake_unb
  have H3 := Lib.hid awake_fold
  go_enter Tryd.func10, Tryd.ntmps10
  go_wp2_with fail
  refine (H1.out _).mono ?_
  rintro e w1 ⟨rfl, hb1⟩
  have hb1h := Lib.hid hb1
  clear hb1
  go_wp2_with fail
  refine (H2.out _).mono ?_
  rintro e w2 ⟨rfl, hb2⟩
  have hb2h := Lib.hid hb2
  clear hb2
  go_wp2_with fail
  refine (H3.out _).mono ?_
  rintro e w3 ⟨⟨b, c, rfl, hlt, hc⟩, hb3⟩
  have hb3h := Lib.hid hb3
  clear hb3
  go_wp2
  go_ret
  exact ⟨rfl, hb1h.out.trans ((hb2h.out.trans (hb3h.out.mono hb2h.out.size)).mono hb1h.out.size)⟩
end Go.Proofs.YtaapmndfefjdcaaDoor
