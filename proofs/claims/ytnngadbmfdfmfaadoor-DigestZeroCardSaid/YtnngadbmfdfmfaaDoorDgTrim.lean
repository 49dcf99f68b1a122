/-
  Helper: the walks of strings.Trim at a text that is trimmed away; DigestZero.
-/
import Derived.Test.YtnngadbmfdfmfaaDoorDgLawA
import Derived.Lib.AsciiSet
namespace Go.Proofs.YtnngadbmfdfmfaaDoor
open Go.RowKit
set_option linter.unusedVariables false
set_option linter.unusedSimpArgs false

def lenS (v : Value) : Nat := match v with | .string t => t.size | _ => 0
set_option maxRecDepth 100000 in
set_option maxHeartbeats 4000000 in
theorem trimR_any (t : ByteArray) (b : Nat) (w : World) (hs : t.size ≤ 1000000) (hc : ∀ x : UInt8, x ∈ t.data.toList → w.cell? ⟨b, x.toNat, none⟩ = some (.bool true)) :
    Calls Tryd.prog 29 #[.string t, .pointer (some ⟨b, 0, none⟩)] w fun e w' => e = .returned (.string ⟨#[]⟩) ∧ w' = w := by
  have HC := Lib.hid hc
  have HK : Hid (∀ (x : UInt8) (W : World), W.cell? ⟨b, x.toNat, none⟩ = some (.bool true) → Calls Tryd.prog 39 #[.pointer (some ⟨b, 0, none⟩), .int .u8 ((x.toNat : Nat) : Int)] W fun e w' => e = .returned (.bool true) ∧ w' = W) := fun x W h => Tryd.asciiSet_contains b x true W h
  clear hc
  go_enter Tryd.func29, Tryd.ntmps29
  go_wp2
  go_loop [0] (fun v => ∃ s : ByteArray, v = .string s ∧ s.size ≤ 1000000 ∧ Hid (∀ x : UInt8, x ∈ s.data.toList → x ∈ t.data.toList)) (fun v => lenS v)
  case atStart => exact ⟨t, rfl, hs, fun x hx => hx⟩
  case round =>
    obtain ⟨s, rfl, hsz, hsub⟩ := hrel
    by_cases h0 : 0 < s.size
    · have h0I : (0 : Int) < (s.size : Int) := by omega
      have e1 : IntKind.i64.wrap ((s.size : Int) - 1) = (s.size : Int) - 1 := IntWalk.i64_in _ (by omega)
      have e2 : (0 : Int) ≤ (s.size : Int) - 1 := by omega
      have e3 : (s.size : Int) - 1 < (s.size : Int) := by omega
      have e4 : ((s.size : Int) - 1).toNat = s.size - 1 := by omega
      have e5 : (s.size : Int) - 1 ≤ (s.size : Int) := by omega
      obtain ⟨x, hx⟩ : ∃ x, s[s.size - 1]'(by omega) = x := ⟨_, rfl⟩
      have hmem : x ∈ t.data.toList := hsub.out x (by
        rw [← hx]
        show s.data[s.size - 1]'_ ∈ _
        exact Array.getElem_mem_toList _)
      have hk := Lib.hid (HK.out x w (HC.out x hmem))
      have hix : ∀ W : World, (Instr.index 9 (.string s) (.int .i64 ((s.size : Int) - 1))).run Tryd.prog W = .ok (.int .u8 ((x.toNat : Nat) : Int)) W := fun W => by
        rw [run_index_string W 9 _ .i64 _ Tryd.underlying9, dif_pos ⟨e2, e3⟩]
        have e : s[((s.size : Int) - 1).toNat]'(by omega) = x := by rw [← hx]; congr 1
        rw [e]
      clear hx hmem
      go_wp2_with fail
      refine hk.out.mono ?_
      rintro e w1 ⟨rfl, rfl⟩
      have hel : (s.extract 0 (s.size - 1)).data.toList = s.data.toList.take (s.size - 1) := by
        rw [Lib.extract_data, List.drop_zero, Nat.sub_zero]
      have hes : (s.extract 0 (s.size - 1)).size = s.size - 1 := by rw [Lib.size_eq, hel, List.length_take, ← Lib.size_eq]; omega
      have hesh := Lib.hid hes
      have helh := Lib.hid hel
      clear hes hel
      go_wp2
      go_roundw
      case rel => exact ⟨_, rfl, by rw [hesh.out]; omega, fun x hx => hsub.out x (by rw [helh.out] at hx; exact List.mem_of_mem_take hx)⟩
      case measure =>
        show (s.extract 0 (s.size - 1)).size < s.size
        rw [hesh.out]; omega
    · have hz : s = ⟨#[]⟩ := by
        have h9 : s.data.toList.length = s.size := (Lib.size_eq s).symm
        have h8 : s.data.toList = [] := List.eq_nil_of_length_eq_zero (by omega)
        obtain ⟨⟨l⟩⟩ := s
        simp at h8
        rw [h8]
      subst hz
      clear h0
      go_wp2
      go_ret
      exact ⟨rfl, rfl⟩
set_option maxRecDepth 100000 in
set_option maxHeartbeats 4000000 in
theorem trimL_none (b : Nat) (w : World) :
    Calls Tryd.prog 28 #[.string ⟨#[]⟩, .pointer (some ⟨b, 0, none⟩)] w fun e w' => e = .returned (.string ⟨#[]⟩) ∧ w' = w := by
  go_enter Tryd.func28, Tryd.ntmps28
  go_wp2
  go_loop [0] (fun v => v = .string ⟨#[]⟩) (fun v => lenS v)
  case atStart => rfl
  case round =>
    obtain rfl := hrel
    go_wp2
    go_ret
    exact ⟨rfl, rfl⟩
theorem zero57 (W : World) : (zeroValue 57).run Tryd.prog W = .ok (.agg (Array.replicate 256 (.bool false))) W := by kernel_rfl
theorem size57 : (Tryd.prog.info? 57).map (·.size) = some (Lib.setCells HX).size := by rw [Lib.setCells_size]; kernel_rfl
set_option maxRecDepth 100000 in
set_option maxHeartbeats 4000000 in
theorem trim_any (t : ByteArray) (w : World) (h0 : 0 < t.size) (hs : t.size ≤ 1000000) (hall : ∀ x : UInt8, x ∈ t.data.toList → x ∈ HX) :
    Calls Tryd.prog 16 #[.string t, .string ⟨#[48, 49, 50, 51, 52, 53, 54, 55, 56, 57, 97, 98, 99, 100, 101, 102]⟩] w fun e w' => e = .returned (.string ⟨#[]⟩) ∧ Below w.heap.size w w' := by
  have hz := zero57
  have HM : Hid (Calls Tryd.prog 27 #[.string ⟨#[48, 49, 50, 51, 52, 53, 54, 55, 56, 57, 97, 98, 99, 100, 101, 102]⟩] w fun e w' => e = .returned (.tuple #[.agg (Lib.setCells HX), .bool true]) ∧ Below w.heap.size w w') :=
    (Tryd.strings_makeASCIISet zero57 ⟨#[48, 49, 50, 51, 52, 53, 54, 55, 56, 57, 97, 98, 99, 100, 101, 102]⟩ w (by decide) (fun j b hb => by
      have hm : b ∈ HX := List.mem_of_getElem? hb
      simp only [HX, List.mem_cons, List.not_mem_nil, or_false] at hm
      rcases hm with rfl | rfl | rfl | rfl | rfl | rfl | rfl | rfl | rfl | rfl | rfl | rfl | rfl | rfl | rfl | rfl <;> decide)).mono fun e w' ⟨h1, h2⟩ => ⟨h1, by rw [h2]; exact (Below.refl _ w).alloc (Nat.le_refl _) _⟩
  have hne : t.toList.isEmpty = false := by
    rw [Lib.toList_data]
    have h9 : t.data.toList.length = t.size := (Lib.size_eq t).symm
    cases hd : t.data.toList with
    | nil => rw [hd] at h9; simp at h9; omega
    | cons => rfl
  have hin : Hid (∀ x : UInt8, x ∈ t.data.toList → (Lib.setCells HX)[x.toNat]? = some (.bool true)) := fun x hx => by
    rw [Lib.setCells_at]
    congr 2
    exact List.contains_iff_mem.2 (hall x hx)
  have hone := Lib.hid (Lib.setCells_one HX)
  have hsz : Hid ((Array.replicate 256 (Value.bool false)).size = (Lib.setCells HX).size) := by show _ = _; rw [Lib.setCells_size, Array.size_replicate]
  have h57 := Lib.hid size57
  clear hall
  go_enter Tryd.func16, Tryd.ntmps16
  go_wp2_with fail
  refine HM.out.mono ?_
  rintro e w1 ⟨rfl, hb1⟩
  obtain ⟨g, hg⟩ : ∃ g, w1.heap.size = g := ⟨_, rfl⟩
  have hA1 : Hid ((w1.alloc (.cells (Array.replicate 256 (.bool false)) 57)).heap[g]? = some (.cells (Array.replicate 256 (.bool false)) 57 (0, 0))) := by rw [← hg]; exact heap_alloc_new w1 _
  have hA2 : Hid (((w1.alloc (.cells (Array.replicate 256 (.bool false)) 57)).setRow g (Lib.setCells HX)).heap[g]? = some (.cells (Lib.setCells HX) 57 (0, 0))) := setRow_heap _ _ _ _ _ _ hA1.out
  have hbe : Hid (Below w.heap.size w ((w1.alloc (.cells (Array.replicate 256 (.bool false)) 57)).setRow g (Lib.setCells HX))) := below_row (hb1.alloc hb1.size _) (by have := hb1.size; omega) _
  generalize Lib.setCells HX = cs at *
  go_wp2_with (refine wpList_store_row rfl 57 (.tmp 5) (.tmp 32) rfl g _ rfl rfl 57 _ hA1.out h57.out hsz.out hone.out ?_)
  generalize (w1.alloc (.cells (Array.replicate 256 (.bool false)) 57)).setRow g cs = w2 at *
  refine (trimR_any t g w2 hs (fun x hx => by rw [cell_of_row w2 g _ _ _ _ hA2.out]; exact hin.out x hx)).mono ?_
  rintro e w3 ⟨rfl, rfl⟩
  go_wp2_with fail
  refine (trimL_none g _).mono ?_
  rintro e w4 ⟨rfl, rfl⟩
  go_wp2
  go_ret
  exact ⟨rfl, hbe.out⟩
end Go.Proofs.YtnngadbmfdfmfaaDoor
