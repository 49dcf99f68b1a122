/-
  Helper: what Indent counts (plain lists), and the walks of position.Indent and of the reference's Indent: both return the number of leading spaces and whether a tab follows.
-/
import Derived.Test.YtmoljdgalonlpaaDoorBase
import Derived.Test.YtmoljdgalonlpaaDoorShelf
import Derived.WalkKit
import Derived.BigQuiet
import Derived.Deep.QuietTactic
namespace Go.Proofs.YtmoljdgalonlpaaDoor
open Go.RowKit

theorem trim_le (l : List UInt8) : (Lib.trimLeftB l 32).length ≤ l.length := (List.dropWhile_suffix _).length_le

set_option maxHeartbeats 400000 in
theorem indent_any (s : ByteArray) (w : World) (hs : s.size ≤ maxLen) :
    Calls Tryd.prog 37 #[.string s] w fun e w' => e = .returned (.tuple #[.int .i64 ((s.size : Int) - (Lib.trimLeftB s.data.toList 32).length), .bool (Lib.hasPrefix (Lib.trimLeftB s.data.toList 32) [9])]) ∧ w = w' := by
  unfold maxLen at hs
  have hle : (Lib.trimLeftB s.data.toList 32).length ≤ s.size := by have := trim_le s.data.toList; simpa using this
  go_enter Tryd.func37, Tryd.ntmps37
  go_wp2_with (first | (go_at_call 57; refine (Tryd.strings_TrimLeft_one _ _ (by decide) _).mono ?_; rintro e w' ⟨rfl, rfl⟩) | (go_at_call 58; refine (Tryd.strings_HasPrefix _ _ _).mono ?_; rintro e w' ⟨rfl, rfl⟩))
  go_ret2
  exact ⟨rfl, rfl⟩

/-- where a walk over spaces stands still -/
theorem trim_at (s : ByteArray) (k : Nat) (hk : k ≤ s.size) (hall : ∀ j (h : j < s.size), j < k → s[j] = 32) (hend : ∀ h : k < s.size, s[k] ≠ 32) : Lib.trimLeftB s.data.toList 32 = s.data.toList.drop k := by
  refine Lib.trimLeftB_drop _ _ k (by simpa using hk) (fun j b hj hb => ?_) (fun b hb => ?_)
  · obtain ⟨hj2, rfl⟩ := List.getElem?_eq_some_iff.1 hb
    exact hall j (by simpa using hj2) hj
  · obtain ⟨hj2, rfl⟩ := List.getElem?_eq_some_iff.1 hb
    exact hend (by simpa using hj2)
theorem trim_len (s : ByteArray) (k : Nat) (hk : k ≤ s.size) (h : Lib.trimLeftB s.data.toList 32 = s.data.toList.drop k) : (s.size : Int) - ((Lib.trimLeftB s.data.toList 32).length : Nat) = k := by
  rw [h, List.length_drop]; have : s.data.toList.length = s.size := by simp
  omega
theorem pre_at (s : ByteArray) (k : Nat) (h : k < s.size) : Lib.hasPrefix (s.data.toList.drop k) [9] = (s[k] == 9) := by
  have : s.data.toList.drop k = s[k] :: s.data.toList.drop (k + 1) := List.drop_eq_getElem_cons (by simpa using h)
  rw [this]
  show ((9 : UInt8) == s[k] && true) = _
  rw [Bool.and_true]
  exact Bool.eq_iff_iff.2 (by rw [beq_iff_eq, beq_iff_eq]; exact eq_comm)
theorem pre_end (s : ByteArray) (k : Nat) (h : ¬ k < s.size) : Lib.hasPrefix (s.data.toList.drop k) [9] = false := by
  rw [List.drop_eq_nil_of_le (by simpa using h)]; rfl

set_option maxHeartbeats 1000000 in
theorem rindent_any (s : ByteArray) (w : World) (hs : s.size ≤ maxLen) :
    Calls Tryd.prog 38 #[.string s] w fun e w' => e = .returned (.tuple #[.int .i64 ((s.size : Int) - (Lib.trimLeftB s.data.toList 32).length), .bool (Lib.hasPrefix (Lib.trimLeftB s.data.toList 32) [9])]) ∧ w = w' := by
  unfold maxLen at hs
  go_enter Tryd.func38, Tryd.ntmps38
  go_wp2
  go_loop [4] (fun n => ∃ k : Nat, k ≤ s.size ∧ n = .int .i64 k ∧ Hid (∀ j (h : j < s.size), j < k → s[j] = 32)) (fun n => s.size - (intOf n).toNat)
  case atStart => exact ⟨0, Nat.zero_le _, rfl, fun j h hj => absurd hj (Nat.not_lt_zero _)⟩
  case round =>
    obtain ⟨k, hk, rfl, HA⟩ := hrel
    have go : ∀ (hend : ∀ h : k < s.size, s[k] ≠ 32), Hid (Lib.trimLeftB s.data.toList 32 = s.data.toList.drop k) := fun hend => trim_at s k hk HA.out hend
    by_cases hlt : k < s.size
    · by_cases hc : s[k] = 32
      · have hcb : ((s[k].toNat : Int) == 32) = true := byte_eq _ _ hc
        have HA' : Hid (∀ j (h : j < s.size), j < k + 1 → s[j] = 32) := fun j h hj => by
          by_cases e : j = k
          · subst e; exact hc
          · exact HA.out j h (by omega)
        clear hc go
        go_wp2
        go_round
        case rel => exact ⟨k + 1, by omega, by go_num, HA'⟩
        case measure => simp [intOf]; omega
      · have hcb : ((s[k].toNat : Int) == 32) = false := byte_ne _ _ hc
        have HT := go (fun _ => hc)
        clear hc go HA
        go_wp2
        have hres : Hid ((s.size : Int) - ((Lib.trimLeftB s.data.toList 32).length : Nat) = k) := trim_len s k hk HT.out
        have hpre : Hid (Lib.hasPrefix (Lib.trimLeftB s.data.toList 32) [9] = (s[k] == 9)) := by rw [HT.out]; exact pre_at s k hlt
        go_loop [5, 6] (fun t i => ∃ j : Nat, k ≤ j ∧ j ≤ s.size ∧ i = .int .i64 j ∧ ((j = k ∧ t = .bool false) ∨ (k < j ∧ t = .bool true ∧ Hid (s[k] = 9)))) (fun _ i => s.size - (intOf i).toNat)
        case atStart => exact ⟨k, Nat.le_refl _, hk, rfl, .inl ⟨rfl, rfl⟩⟩
        case round =>
          obtain ⟨j, hkj, hj, rfl, ht⟩ := hrel
          rcases ht with ⟨rfl, rfl⟩ | ⟨hlj, rfl, H9⟩
          · by_cases h9 : s[j] = 9
            · have hcc : ((s[j].toNat : Int) == 9) = true := byte_eq _ _ h9
              have HH : Hid (s[j] = 9) := h9
              clear h9 hres hpre HT
              go_wp2
              go_round
              case rel => exact ⟨j + 1, by omega, by omega, by go_num, .inr ⟨by omega, rfl, HH⟩⟩
              case measure => simp [intOf]; omega
            · have hcc : ((s[j].toNat : Int) == 9) = false := byte_ne _ _ h9
              have hpre' : Hid (Lib.hasPrefix (Lib.trimLeftB s.data.toList 32) [9] = false) := by rw [hpre.out, beq_eq_false_iff_ne]; exact h9
              clear h9 hpre HT
              go_wp2
              go_ret2
              rw [hres.out, hpre'.out]
              exact ⟨rfl, rfl⟩
          · have hpre' : Hid (Lib.hasPrefix (Lib.trimLeftB s.data.toList 32) [9] = true) := by rw [hpre.out, H9.out]; rfl
            by_cases hjl : j < s.size
            · by_cases c1 : s[j] = 32
              · have hc1 : ((s[j].toNat : Int) == 32) = true := byte_eq _ _ c1
                have hc2 : ((s[j].toNat : Int) == 9) = false := byte_ne s[j] 9 (by rw [c1]; decide)
                clear c1 hres hpre hpre' HT
                go_wp2
                go_round
                case rel => exact ⟨j + 1, by omega, by omega, by go_num, .inr ⟨by omega, rfl, H9⟩⟩
                case measure => simp [intOf]; omega
              · have hc1 : ((s[j].toNat : Int) == 32) = false := byte_ne _ _ c1
                by_cases c2 : s[j] = 9
                · have hc2 : ((s[j].toNat : Int) == 9) = true := byte_eq _ _ c2
                  clear c1 c2 hres hpre hpre' HT
                  go_wp2
                  go_round
                  case rel => exact ⟨j + 1, by omega, by omega, by go_num, .inr ⟨by omega, rfl, H9⟩⟩
                  case measure => simp [intOf]; omega
                · have hc2 : ((s[j].toNat : Int) == 9) = false := byte_ne _ _ c2
                  clear c1 c2 hpre HT
                  go_wp2
                  go_ret2
                  rw [hres.out, hpre'.out]
                  exact ⟨rfl, rfl⟩
            · obtain rfl : j = s.size := by omega
              clear hpre HT
              go_wp2
              go_ret2
              rw [hres.out, hpre'.out]
              exact ⟨rfl, rfl⟩
    · have HT := go (fun h => absurd h hlt)
      clear go HA
      obtain rfl : k = s.size := by omega
      have hres : Hid ((s.size : Int) - ((Lib.trimLeftB s.data.toList 32).length : Nat) = s.size) := trim_len s s.size hk HT.out
      have hpre : Hid (Lib.hasPrefix (Lib.trimLeftB s.data.toList 32) [9] = false) := by rw [HT.out]; exact pre_end s s.size hlt
      clear HT
      go_wp2
      go_loop [5, 6] (fun t i => i = .int .i64 s.size ∧ t = .bool false) (fun _ i => 0)
      case atStart => exact ⟨rfl, rfl⟩
      case round =>
        obtain ⟨rfl, rfl⟩ := hrel
        go_wp2
        go_ret2
        rw [hres.out, hpre.out]
        exact ⟨rfl, rfl⟩
end Go.Proofs.YtmoljdgalonlpaaDoor
