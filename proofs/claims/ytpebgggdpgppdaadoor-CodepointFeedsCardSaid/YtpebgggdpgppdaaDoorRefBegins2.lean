/-
  Helper: the walk of the reference's begins where the first byte begins a sequence of 2 bytes.
-/
import Derived.Test.YtpebgggdpgppdaaDoorRefBegins
namespace Go.Proofs.YtpebgggdpgppdaaDoor
open Go.RowKit
set_option linter.unusedVariables false

set_option maxRecDepth 100000 in
set_option maxHeartbeats 4000000 in
theorem begins_2 (b off cap : Nat) (xs : List Nat) (c : Nat) (w : World) (hc : 192 ≤ c ∧ c < 224) (hxc : xs.getD 0 0 = c) (hx : ∀ x ∈ xs, x < 256) (hm : 1 ≤ xs.length) (hm2 : xs.length ≤ 1000000) (hB : Bs w b off xs) :
    Calls Tryd.prog 16 #[.slice (some ⟨b, off, none⟩) xs.length cap] w fun e w' => e = .returned (.tuple #[.int .i64 ((begins xs).1 : Nat), .int .i64 ((begins xs).2 : Nat)]) ∧ w = w' := by
  have h0 := hB 0 (by omega)
  rw [hxc, Nat.add_zero] at h0
  have hxs : xs = c :: xs.drop 1 := by have := drop_getD xs 0 (by omega); rw [List.drop_zero, hxc] at this; exact this
  have hlen : (xs.drop 1).length = xs.length - 1 := by simp
  have hbeg : Hid (begins xs = if 2 < xs.length then (0, 0) else match conts (c - 192) (xs.drop 1) with
      | none => (0, 0)
      | some v => judge (2, c - 192, 128, 2047) (widen (2 - xs.length) (v, v))) := by
    show begins xs = _
    conv => lhs; rw [hxs]
    rw [begins, if_neg (by omega), lim2 c hc, hlen, show xs.length - 1 + 1 = xs.length from by omega]
    exact rfl
  have HB := Lib.hid hB
  have HX := Lib.hid hx
  clear hB hx hxs hlen hxc
  by_cases hlong : 2 < xs.length
  · have hres : Hid (begins xs = (0, 0)) := by rw [hbeg.out, if_pos hlong]; exact rfl
    clear hbeg
    generalize xs.length = m at *
    go_enter Tryd.func16, Tryd.ntmps16
    go_wp2
    go_ret2
    rw [hres.out]
    exact ⟨rfl, rfl⟩
  · have hbeg2 : Hid (begins xs = match conts (c - 192) (xs.drop 1) with
      | none => (0, 0)
      | some v => judge (2, c - 192, 128, 2047) (widen (2 - xs.length) (v, v))) := by rw [hbeg.out, if_neg hlong]; exact rfl
    clear hbeg
    have hgd := Lib.hid (fun k (hk : k < xs.length) => drop_getD xs k hk)
    have hdn : Hid (xs.drop xs.length = []) := by show _ = _; simp
    have hgl := Lib.hid (fun k => getD_lt xs HX.out k)
    obtain ⟨m, hmm⟩ : ∃ m, m = xs.length := ⟨_, rfl⟩
    have HB2 : Hid (∀ i, i < m → w.cell? ⟨b, off + i, none⟩ = some (.int .u8 ((xs.getD i 0 : Nat) : Int))) := by rw [hmm]; exact HB.out
    rw [← hmm] at hgd hdn hm hm2 hlong hbeg2 ⊢
    clear HB hmm
    go_enter Tryd.func16, Tryd.ntmps16
    go_wp2
    go_loop [6, 9] (fun v i => ∃ (k u : Nat), 1 ≤ k ∧ k ≤ m ∧ i = .int .i64 k ∧ v = .int .i64 u ∧ Hid (conts (c - 192) (xs.drop 1) = conts u (xs.drop k)) ∧ Hid (small k u)) (fun _ i => m - (intOf i).toNat)
    case atStart => exact ⟨1, c - 192, Nat.le_refl _, hm, rfl, by exact congrArg (Value.int .i64) (by omega), rfl, by show small _ _; unfold small; omega⟩
    case round =>
      obtain ⟨k, u, h1, h2, rfl, rfl, HC, HS⟩ := hrel
      have hu := small_le k u h1 (by omega) HS.out
      by_cases hlt : k < m
      · have hck := HB2.out k hlt
        have hx1 := hgl.out k
        have hd1 := hgd.out k hlt
        generalize xs.getD k 0 = x at *
        by_cases hco : cont x
        · have hco2 : 128 ≤ x ∧ x ≤ 191 := hco
          have HC2 : Hid (conts (c - 192) (xs.drop 1) = conts (64 * u + x - 128) (xs.drop (k + 1))) := by rw [HC.out, hd1, conts_cons, if_pos hco]; exact rfl
          have HS2 : Hid (small (k + 1) (64 * u + x - 128)) := small_mono _ _ _ (small_next k u h1 (by omega) HS.out) (by omega)
          clear hco hd1 HC
          go_wp2
          go_round
          case rel => exact ⟨k + 1, 64 * u + x - 128, by omega, by omega, by go_num, by exact congrArg (Value.int .i64) (by omega), HC2, HS2⟩
          case measure => simp [intOf]; omega
        · have hres : Hid (begins xs = (0, 0)) := by rw [hbeg2.out, HC.out, hd1, conts_cons, if_neg hco]; exact rfl
          have hco2 : x < 128 ∨ 191 < x := by unfold cont at hco; omega
          clear hco hd1 HC hbeg2
          rcases hco2 with hco2 | hco2
          · go_wp2
            go_ret2
            rw [hres.out]
            exact ⟨rfl, rfl⟩
          · go_wp2
            go_ret2
            rw [hres.out]
            exact ⟨rfl, rfl⟩
      · obtain rfl : k = m := by omega
        have hres : Hid (begins xs = judge (2, c - 192, 128, 2047) (widen (2 - k) (u, u))) := by rw [hbeg2.out, HC.out, hdn.out]; exact rfl
        clear HC hbeg2 hdn hgd HB2 hgl
        go_wp2
        go_loop [10, 11, 12] (fun lo hi i => ∃ (j l h : Nat), k ≤ j ∧ j ≤ 2 ∧ i = .int .i64 j ∧ lo = .int .i64 l ∧ hi = .int .i64 h ∧ l ≤ h ∧ Hid (small j h) ∧ Hid (widen (2 - k) (u, u) = widen (2 - j) (l, h))) (fun _ _ i => 2 - (intOf i).toNat)
        case atStart => exact ⟨k, u, u, Nat.le_refl _, by omega, rfl, rfl, rfl, Nat.le_refl _, HS, rfl⟩
        case round =>
          obtain ⟨j, l, h, g1, g2, rfl, rfl, rfl, g3, HS3, HW⟩ := hrel
          have hh := small_le j h (by omega) (by omega) HS3.out
          by_cases hj : j < 2
          · have HS4 : Hid (small (j + 1) (64 * h + 63)) := small_next j h (by omega) (by omega) HS3.out
            have HW2 : Hid (widen (2 - k) (u, u) = widen (2 - (j + 1)) (64 * l, 64 * h + 63)) := by rw [HW.out, show 2 - j = 2 - (j + 1) + 1 from by omega]; exact rfl
            clear HW HS3
            go_wp2
            go_round
            case rel => exact ⟨j + 1, 64 * l, 64 * h + 63, by omega, by omega, by go_num, by exact congrArg (Value.int .i64) (by omega), by exact congrArg (Value.int .i64) (by omega), by omega, HS4, HW2⟩
            case measure => simp [intOf]; omega
          · obtain rfl : j = 2 := by omega
            have hres2 : Hid (begins xs = judge (2, c - 192, 128, 2047) (l, h)) := by rw [hres.out, HW.out]; exact rfl
            clear hres HW HS3
            by_cases q1 : h < 128
            · have hz : Hid (begins xs = (0, 0)) := by rw [hres2.out]; exact if_pos (Or.inl q1)
              clear hres2
              go_wp2
              go_ret2
              rw [hz.out]
              exact ⟨rfl, rfl⟩
            · by_cases q2 : 2047 < l
              · have hz : Hid (begins xs = (0, 0)) := by rw [hres2.out]; exact if_pos (Or.inr (Or.inl q2))
                clear hres2
                go_wp2
                all_goals go_ret2
                all_goals rw [hz.out]
                all_goals exact ⟨rfl, rfl⟩
              · by_cases q3 : 55296 ≤ l
                · by_cases q4 : h ≤ 57343
                  · have hz : Hid (begins xs = (0, 0)) := by rw [hres2.out]; exact if_pos (Or.inr (Or.inr ⟨q3, q4⟩))
                    clear hres2
                    go_wp2
                    all_goals go_ret2
                    all_goals rw [hz.out]
                    all_goals exact ⟨rfl, rfl⟩
                  · have hz : Hid (begins xs = (l, 2)) := by
                      rw [hres2.out]
                      exact if_neg (fun g => by simp only at g; omega)
                    clear hres2
                    go_wp2
                    all_goals go_ret2
                    all_goals rw [hz.out]
                    all_goals exact ⟨rfl, rfl⟩
                · have hz : Hid (begins xs = (l, 2)) := by
                    rw [hres2.out]
                    exact if_neg (fun g => by simp only at g; omega)
                  clear hres2
                  go_wp2
                  all_goals go_ret2
                  all_goals rw [hz.out]
                  all_goals exact ⟨rfl, rfl⟩
end Go.Proofs.YtpebgggdpgppdaaDoor
