/-
  Helper: the walk of Seconds.
-/
import Derived.Test.YtckeefjmamggmaaDoorInMom
namespace Go.Proofs.YtckeefjmamggmaaDoor
open Go.RowKit
set_option linter.unusedVariables false

theorem str_inj (a b : ByteArray) (h : a.toList = b.toList) : a = b := by
  rw [ByteArray.toList_eq, ByteArray.toList_eq] at h
  exact ByteArray.ext (Array.toList_inj.1 h)
theorem str_ne {a b : ByteArray} (h : ¬ a = b) : (a.toList == b.toList) = false := by
  rw [beq_eq_false_iff_ne]
  exact fun e => h (str_inj a b e)
theorem of_any (n : Int) (k : Nat) (hk : k ≤ 999999999) (w : World) (hT : Tabs w) : Calls Tryd.prog 15 #[.int .i64 n, .int .i64 k] w (OfP n k w) := by
  by_cases h : n < -62167219200 ∨ 253402300799 < n
  · exact of_time n k w (by omega) (by omega) h
  · exact of_yes ((n + 62167219200) / 86400).toNat ((n + 62167219200) % 86400).toNat k n (by omega) w hT (by omega) (by omega) hk
theorem of_all (n k : Int) (w : World) (hT : Tabs w) : Calls Tryd.prog 15 #[.int .i64 n, .int .i64 k] w (OfP n k w) := by
  by_cases h : k < 0 ∨ 999999999 < k
  · exact of_range n k w h
  · obtain ⟨j, rfl⟩ : ∃ j : Nat, k = j := ⟨k.toNat, by omega⟩
    exact of_any n j (by omega) w hT
open Classical in
noncomputable def secG (m : Int × Nat × Int) (s : ByteArray) : Int × Nat × Int := if m.2.2 = 0 ∧ OfR m.1 m.2.1 s 0 then (m.1, m.2.1, 0) else (0, 0, 3)
noncomputable def secF (s : ByteArray) : Int × Nat × Int := secG (momF (rd s.data.toList)) s
open Classical in
set_option maxRecDepth 100000 in
set_option maxHeartbeats 4000000 in
theorem Seconds_any (s : ByteArray) (w : World) (hT : Tabs w) (hs : s.size ≤ 1000000) : Calls Tryd.prog 13 #[.string s] w (MomP (secF s) w) := by
  have HM := Lib.hid (moment_any s w hT hs)
  unfold secF
  generalize momF (rd s.data.toList) = m at *
  obtain ⟨a, b, c⟩ := m
  replace HM : Hid (Calls Tryd.prog 17 #[.string s] w fun e w' => e = .returned (.tuple #[.int .i64 a, .int .i64 b, .int .i64 c]) ∧ Below w.heap.size w w') := HM
  have HG : Hid (secG (a, b, c) s = if c = 0 ∧ OfR a b s 0 then (a, b, 0) else (0, 0, 3)) := by
    show _ = _
    unfold secG; rfl
  have HO := Lib.hid (fun W hW => of_all a b W hW)
  have HF : Hid (∀ x y z w', secG (a, b, c) s = (x, y, z) → Below w.heap.size w w' → MomP (secG (a, b, c) s) w (.returned (.tuple #[.int .i64 x, .int .i64 (y : Nat), .int .i64 z])) w') := fun x y z w' h1 h2 => by rw [h1]; exact ⟨rfl, h2⟩
  generalize hPo : MomP (secG (a, b, c) s) w = Po at *
  clear hPo
  have HT : Hid (∀ W, Below w.heap.size w W → Tabs W) := fun W hb => hT.below hb hT.1
  clear hT hs
  by_cases hc : c = 0
  · subst hc
    go_enter Tryd.func13, Tryd.ntmps13
    go_wp2_with fail
    refine HM.out.mono ?_
    rintro e w1 ⟨rfl, hb1⟩
    have hb1h := Lib.hid hb1
    clear hb1
    go_wp2_with fail
    refine (HO.out _ (HT.out _ hb1h.out)).mono ?_
    rintro e w2 ⟨t, en, hof, rfl, hb2⟩
    have hb2h := bt hb1h hb2
    have hofh := Lib.hid hof
    clear hb2 hof
    by_cases hen : en = 0
    · subst hen
      by_cases hts : t = s
      · subst hts
        have hfin := Lib.hid (HF.out _ _ _ w2 (HG.out.trans (by rw [if_pos (by exact ⟨by first | rfl | trivial, hofh.out⟩)])) hb2h.out)
        clear HF HG
        go_wp2
        go_ret3
        exact hfin.out
      · have hfin := Lib.hid (HF.out _ _ _ w2 (HG.out.trans (by rw [if_neg (fun h => hts (hofh.out.det h.2).1)])) hb2h.out)
        clear HF HG
        have hts2 := str_ne hts
        go_wp2
        go_ret3
        exact hfin.out
    · have hfin := Lib.hid (HF.out _ _ _ w2 (HG.out.trans (by rw [if_neg (fun h => hen (hofh.out.det h.2).2)])) hb2h.out)
      clear HF HG
      go_wp2
      go_ret3
      exact hfin.out
  · have hfin := Lib.hid (fun w' => HF.out _ _ _ w' (HG.out.trans (by rw [if_neg (fun h => hc h.1)])))
    have hc2 : (c == 0) = false := by rw [beq_eq_false_iff_ne]; exact hc
    clear hc HF HG
    go_enter Tryd.func13, Tryd.ntmps13
    go_wp2_with fail
    refine HM.out.mono ?_
    rintro e w1 ⟨rfl, hb1⟩
    have hfin2 := Lib.hid (hfin.out _ hb1)
    clear hb1
    go_wp2
    go_ret3
    exact hfin2.out
end Go.Proofs.YtckeefjmamggmaaDoor
