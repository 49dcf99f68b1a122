/-
  Helper: the walk of the statement ArmorJoins.
-/
import Derived.Test.YtaapmndfefjdcaaDoorArLaws
namespace Go.Proofs.YtaapmndfefjdcaaDoor
open Go.RowKit
set_option linter.unusedVariables false

theorem app_list (a b : ByteArray) : (a ++ b).data.toList = a.data.toList ++ b.data.toList := by simp
theorem mk_app (x y : List UInt8) : (⟨(x ++ y).toArray⟩ : ByteArray) = ⟨x.toArray⟩ ++ ⟨y.toArray⟩ := ba_ext _ _ (by simp)
theorem flat3 (a b : ByteArray) : ([a, ⟨#[]⟩, b].map (fun c : ByteArray => c.data.toList)).flatten = a.data.toList ++ b.data.toList := by simp
theorem cells3 (W : World) (a b : ByteArray) (j : Nat) (x : ByteArray) (hj : [a, ⟨#[]⟩, b][j]? = some x) : (W.alloc (.cells #[.string a, .string ⟨#[]⟩, .string b] 9)).cell? ⟨W.heap.size, 0 + j, none⟩ = some (.string x) := by
  rw [Nat.zero_add, World.cell?_alloc_at _ _ _ _ rfl]
  match j, hj with
  | 0, hj => simp at hj; subst hj; rfl
  | 1, hj => simp at hj; subst hj; rfl
  | 2, hj => simp at hj; subst hj; rfl
theorem unfold3 (a b : ByteArray) (h : a.size + b.size ≤ 1000) (W : World) (g : Nat) (hg : W.heap.size = g) : Calls Tryd.prog 21 #[.slice (some ⟨g, 0, none⟩) 3 3] (W.alloc (.cells #[.string a, .string ⟨#[]⟩, .string b] 9)) fun e w' => e = .returned (.string (a ++ b)) ∧ Below (W.heap.size + 1) (W.alloc (.cells #[.string a, .string ⟨#[]⟩, .string b] 9)) w' := by
  subst hg
  have ea : a.data.toList.length = a.size := by simp
  have eb : b.data.toList.length = b.size := by simp
  have e1 : (W.alloc (.cells #[.string a, .string ⟨#[]⟩, .string b] 9)).heap.size = W.heap.size + 1 := by simp
  have hc := unfold_cells W.heap.size 3 [a, ⟨#[]⟩, b] 3 rfl (W.alloc (.cells #[.string a, .string ⟨#[]⟩, .string b] 9)) (cells3 W a b) (by rw [e1]; omega) (by show 3 ≤ _; omega) (by show 3 ≤ _; omega) (by rw [flat3, List.length_append]; omega)
  rw [flat3] at hc
  refine hc.mono ?_
  rintro e w' ⟨h1, h2⟩
  rw [mk_app, ba_eta, ba_eta] at h1
  rw [e1] at h2
  exact ⟨h1, h2⟩
set_option maxRecDepth 100000 in
set_option maxHeartbeats 4000000 in
theorem walkArmorJoins (w : World) (a : ByteArray) (h : a.size ≤ 140737488351232) (b : ByteArray) (h' : b.size ≤ 140737488351232) : Calls Tryd.prog 9 #[.string a, .string b] w fun e w' => e = .returned (.bool true) ∧ Below w.heap.size w w' := by
  have HA := Lib.hid awake_any
  by_cases hs : a.size + b.size ≤ 1000
  · have ea : a.data.toList.length = a.size := by simp
    have eab : (a ++ b).size = a.size + b.size := ByteArray.size_append
    obtain ⟨p, hp⟩ : ∃ p, p = a.size / 3 * 3 := ⟨_, rfl⟩
    have hpi : (a.size : Int) / 3 * 3 = (p : Int) := by omega
    have hpa : p ≤ a.size := by omega
    have hpm : p % 3 = 0 := by omega
    obtain ⟨t, ht⟩ : ∃ t : ByteArray, t = a.extract 0 p := ⟨_, rfl⟩
    have hts : t.size ≤ a.size := by rw [ht, ByteArray.size_extract]; omega
    have htl : t.data.toList.length % 3 = 0 := by
      rw [ht, Lib.extract_data, List.drop_zero, List.length_take, ea, Nat.sub_zero, Nat.min_eq_left hpa]; exact hpm
    have hta : a.extract 0 p = t := ht.symm
    have etb : (t ++ b).size = t.size + b.size := ByteArray.size_append
    have C1 : Hid (∀ W, Calls Tryd.prog 12 #[.string (a ++ b)] W fun e w' => e = .returned (.string (⟨(hexA a.data.toList).toArray⟩ ++ ⟨(hexA b.data.toList).toArray⟩)) ∧ Below W.heap.size W w') := fun W => (hex_any (a ++ b) W (by omega)).mono fun e w' ⟨h1, h2⟩ => ⟨by rw [h1, app_list, hexA_app, mk_app], h2⟩
    have C2 : Hid (∀ W, Calls Tryd.prog 12 #[.string a] W fun e w' => e = .returned (.string ⟨(hexA a.data.toList).toArray⟩) ∧ Below W.heap.size W w') := fun W => hex_any a W (by omega)
    have C3 : Hid (∀ W, Calls Tryd.prog 12 #[.string b] W fun e w' => e = .returned (.string ⟨(hexA b.data.toList).toArray⟩) ∧ Below W.heap.size W w') := fun W => hex_any b W (by omega)
    have C4 : Hid (∀ W, Calls Tryd.prog 16 #[.string (t ++ b)] W fun e w' => e = .returned (.string (⟨(b64A t.data.toList).toArray⟩ ++ ⟨(b64A b.data.toList).toArray⟩)) ∧ Below W.heap.size W w') := fun W => (b64_any (t ++ b) W (by omega)).mono fun e w' ⟨h1, h2⟩ => ⟨by rw [h1, app_list, b64A_app _ _ htl, mk_app], h2⟩
    have C5 : Hid (∀ W, Calls Tryd.prog 16 #[.string t] W fun e w' => e = .returned (.string ⟨(b64A t.data.toList).toArray⟩) ∧ Below W.heap.size W w') := fun W => b64_any t W (by omega)
    have C6 : Hid (∀ W, Calls Tryd.prog 16 #[.string b] W fun e w' => e = .returned (.string ⟨(b64A b.data.toList).toArray⟩) ∧ Below W.heap.size W w') := fun W => b64_any b W (by omega)
    have C7 := Lib.hid (fun W g => unfold3 a b hs W g)
    have eb : b.data.toList.length = b.size := by simp
    have et : t.data.toList.length = t.size := by simp
    have z1 : (⟨(hexA a.data.toList).toArray⟩ : ByteArray).size ≤ 4000 := by
      have e1 : (⟨(hexA a.data.toList).toArray⟩ : ByteArray).size = (hexA a.data.toList).length := by simp [ByteArray.size]
      rw [e1, hexA_len, ea]; omega
    have z2 : (⟨(hexA b.data.toList).toArray⟩ : ByteArray).size ≤ 4000 := by
      have e1 : (⟨(hexA b.data.toList).toArray⟩ : ByteArray).size = (hexA b.data.toList).length := by simp [ByteArray.size]
      rw [e1, hexA_len, eb]; omega
    have z3 : (⟨(b64A t.data.toList).toArray⟩ : ByteArray).size ≤ 4000 := by
      have e1 : (⟨(b64A t.data.toList).toArray⟩ : ByteArray).size = (b64A t.data.toList).length := by simp [ByteArray.size]
      rw [e1, b64A_len, et]; omega
    have z4 : (⟨(b64A b.data.toList).toArray⟩ : ByteArray).size ≤ 4000 := by
      have e1 : (⟨(b64A b.data.toList).toArray⟩ : ByteArray).size = (b64A b.data.toList).length := by simp [ByteArray.size]
      rw [e1, b64A_len, eb]; omega
    have hsi : (a.size : Int) + (b.size : Int) ≤ 1000 := by omega
    have htb : t.size + b.size ≤ 1000 := by omega
    have hpi2 : (p : Int) ≤ (a.size : Int) := by omega
    clear hp ht htl hts etb eab ea hs hpm eb et
    generalize (⟨(hexA a.data.toList).toArray⟩ : ByteArray) = HAa at *
    generalize (⟨(hexA b.data.toList).toArray⟩ : ByteArray) = HBb at *
    generalize (⟨(b64A t.data.toList).toArray⟩ : ByteArray) = BT at *
    generalize (⟨(b64A b.data.toList).toArray⟩ : ByteArray) = BB at *
    go_enter Tryd.func9, Tryd.ntmps9
    go_wp2_with fail
    refine (HA.out _).mono ?_
    rintro e w1 ⟨rfl, hb1⟩
    have hB0 : Hid (Below w.heap.size w w1) := hb1
    clear hb1
    go_wp2_with fail
    refine (C1.out _).mono ?_
    rintro e v0 ⟨rfl, hb⟩
    have hB1 := bt hB0 hb
    clear hb
    go_wp2_with fail
    refine (C2.out _).mono ?_
    rintro e v1 ⟨rfl, hb⟩
    have hB2 := bt hB1 hb
    clear hb
    go_wp2_with fail
    refine (C3.out _).mono ?_
    rintro e v2 ⟨rfl, hb⟩
    have hB3 := bt hB2 hb
    clear hb
    go_wp2_with fail
    refine (C4.out _).mono ?_
    rintro e v3 ⟨rfl, hb⟩
    have hB4 := bt hB3 hb
    clear hb
    go_wp2_with fail
    refine (C5.out _).mono ?_
    rintro e v4 ⟨rfl, hb⟩
    have hB5 := bt hB4 hb
    clear hb
    go_wp2_with fail
    refine (C6.out _).mono ?_
    rintro e v5 ⟨rfl, hb⟩
    have hB6 := bt hB5 hb
    clear hb
    go_wp2_with fail
    refine (C7.out _ _ rfl).mono ?_
    rintro e v7 ⟨rfl, hb⟩
    have hB7 : Hid (Below w.heap.size w v7) := (hB6.out.alloc hB6.out.size _).trans (hb.mono (by have := hB6.out.size; omega))
    clear hb
    go_wp2
    go_ret
    exact ⟨rfl, hB7.out⟩
  · have hsi : ¬ (a.size : Int) + (b.size : Int) ≤ 1000 := by omega
    go_enter Tryd.func9, Tryd.ntmps9
    go_wp2_with fail
    refine (HA.out _).mono ?_
    rintro e w1 ⟨rfl, hb1⟩
    have hB0 : Hid (Below w.heap.size w w1) := hb1
    clear hb1
    go_wp2
    go_ret
    exact ⟨rfl, hB0.out⟩
end Go.Proofs.YtaapmndfefjdcaaDoor
