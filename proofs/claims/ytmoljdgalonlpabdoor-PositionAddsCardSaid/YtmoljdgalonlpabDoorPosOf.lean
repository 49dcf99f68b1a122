/-
  Helper: the walk of position.Of: its slice holds where the lines behind the first one begin.
-/
import Derived.Test.YtmoljdgalonlpabDoorBase
import Derived.Test.YtmoljdgalonlpabDoorShelf
import Derived.Test.YtmoljdgalonlpabDoorPosPlain
import Derived.WalkKit
import Derived.BigQuiet
import Derived.Deep.QuietTactic
namespace Go.Proofs.YtmoljdgalonlpabDoor
open Go.RowKit

/-- numbers as cells -/
def ints (xs : List Nat) : List Value := xs.map fun (n : Nat) => Value.int .i64 (n : Int)
theorem ints_len (xs : List Nat) : (ints xs).length = xs.length := by simp [ints]

theorem info3 : (Tryd.prog.info? 3).map (fun i => (i.zero, i.size, i.bytes)) = some (some (.int .i64 0), 1, 8) := by kernel_rfl


set_option maxHeartbeats 1000000 in
set_option maxRecDepth 1000000 in
theorem of_any (s : ByteArray) (w : World) (hs : s.size ≤ 100000) :
    Calls Tryd.prog 10 #[.string s] w fun e w' => ∃ v, e = .returned (.agg #[.string s, v]) ∧ w'.ownsRow (w.heap.size + 1) 3 1 v (cnt s.data.toList s.size) (ints (nls s.data.toList s.size)) ∧ Below w.heap.size w w' := by
  obtain ⟨i0, hi, hz0, hz1, hz2⟩ := info_parts info3
  have hcl := countByte_le s.data.toList 10
  have hll : s.data.toList.length = s.size := by simp
  rw [hll] at hcl
  clear hll
  go_enter Tryd.func10, Tryd.ntmps10
  go_wp2_with fail
  refine (Tryd.strings_Count_one _ 10 _).mono ?_
  rintro e w' ⟨rfl, rfl⟩
  go_wp2_with (at_make; refine wpList_make_own _ rfl _ _ 22 rfl (w.heap.size + 1) 3 i0 (.int .i64 0) 1 Tryd.underlying22 hi hz0 hz1 .i64 .i64 _ _ rfl rfl rfl ?c1 ?c2 ?c3 ?_)
  case c1 => rw [hz2]; omega
  case c2 => unfold maxLen; omega
  case c3 => simp
  intro w1 hown hgr
  have hbel0 : Below (w.heap.size + 1) (w.alloc (.cells #[.string ⟨#[]⟩, .slice none 0 0] 24)) w1 := (Below.refl _ _).grown hgr (by simp) (by simp)
  have hb1 : w.heap.size + 1 ≤ w1.heap.size := by have := hbel0.size; simpa using this
  clear hgr
  go_wp2
  go_loopw [3, 10] (fun v c wr => ∃ k : Nat, k ≤ s.size ∧ c = .int .i64 k ∧ wr.ownsRow (w.heap.size + 1) 3 1 v (cnt s.data.toList k) (ints (nls s.data.toList k)) ∧ Below (w.heap.size + 1) (w.alloc (.cells #[.string ⟨#[]⟩, .slice none 0 0] 24)) wr) (fun _ c _ => s.size - (intOf c).toNat)
  case atStart => exact ⟨0, Nat.zero_le _, rfl, hown, hbel0⟩
  case round =>
    clear hown hbel0 hb1
    obtain ⟨k, hk, rfl, hown, hbel⟩ := hrel
    have hbr : w.heap.size + 1 ≤ wr.heap.size := by have := hbel.size; simpa using this
    have hck := cnt_le s.data.toList k
    by_cases hlt : k < s.size
    · by_cases hc : s[k] = 10
      · have hcb : ((s[k].toNat : Int) == 10) = true := byte_eq _ _ hc
        have hn : s.data.toList[k]? = some 10 := get_some s k 10 hlt hc
        have hnl : Hid (nls s.data.toList (k + 1) = nls s.data.toList k ++ [k + 1]) := nls_nl _ _ hn
        clear hc hn
        go_wp2_with (at_builtin; refine wpList_append_own _ rfl _ _ 22 rfl (w.heap.size + 1) 3 i0 (.int .i64 0) 1 8 Tryd.underlying22 hi hz0 hz1 hz2 rfl (by decide) _ _ _ rfl (hown.alloc _) ⟨wr.heap.size, 0, none⟩ 1 1 [.int .i64 ((k : Int) + 1)] rfl rfl ?c1 ?c2 ?c3 ?c4 ?c5 ?_)
        case c1 => exact cell_one wr _ _
        case c2 => simp [Value.oneCell']
        case c3 => unfold maxLen; omega
        case c4 => omega
        case c5 => simp; omega
        intro v' w2 hown' hgr' _
        have hbel' : Below (w.heap.size + 1) (w.alloc (.cells #[.string ⟨#[]⟩, .slice none 0 0] 24)) w2 := (hbel.alloc (by omega) _).grown hgr' (by simp; omega) (fun b hb => World.ownsRow.ownBlock_le hown b hb)
        have hown2 : w2.ownsRow (w.heap.size + 1) 3 1 v' (cnt s.data.toList (k + 1)) (ints (nls s.data.toList (k + 1))) := by
          have e1 : cnt s.data.toList (k + 1) = cnt s.data.toList k + 1 := by unfold cnt; rw [hnl.out]; simp
          have e2 : ints (nls s.data.toList (k + 1)) = ints (nls s.data.toList k) ++ [.int .i64 ((k : Int) + 1)] := by rw [hnl.out]; unfold ints; rw [List.map_append]; rfl
          rw [e1, e2]; exact hown'
        clear hown hown' hgr' hbel
        go_wp2
        go_roundw
        case rel => exact ⟨k + 1, by omega, by go_num, hown2, hbel'⟩
        case measure => simp [intOf]; omega
      · have hcb : ((s[k].toNat : Int) == 10) = false := byte_ne _ _ hc
        have hn : s.data.toList[k]? ≠ some 10 := get_none s k 10 hlt hc
        have hnl : Hid (nls s.data.toList (k + 1) = nls s.data.toList k) := nls_no _ _ hn
        have hown2 : wr.ownsRow (w.heap.size + 1) 3 1 u3 (cnt s.data.toList (k + 1)) (ints (nls s.data.toList (k + 1))) := by
          have e1 : cnt s.data.toList (k + 1) = cnt s.data.toList k := by unfold cnt; rw [hnl.out]
          rw [e1, hnl.out]; exact hown
        clear hc hn hown
        go_wp2
        go_roundw
        case rel => exact ⟨k + 1, by omega, by go_num, hown2, hbel⟩
        case measure => simp [intOf]; omega
    · obtain rfl : k = s.size := by omega
      obtain ⟨a, cap, hv⟩ := World.ownsRow.isSlice hown
      have hc0 : wr.cell? ⟨w.heap.size, 0, none⟩ = some (.string ⟨#[]⟩) := by rw [hbel.cell (by simp), World.cell?_alloc_at _ _ _ _ rfl]; rfl
      have hc1 : wr.cell? ⟨w.heap.size, 1, none⟩ = some (.slice none 0 0) := by rw [hbel.cell (by simp), World.cell?_alloc_at _ _ _ _ rfl]; rfl
      have hf0 : wr.frozen? ⟨w.heap.size, 0, none⟩ = false := by rw [hbel.frozen (by simp)]; exact World.frozen?_alloc_at _ _ _ _ rfl
      have hf1 : wr.frozen? ⟨w.heap.size, 1, none⟩ = false := by rw [hbel.frozen (by simp)]; exact World.frozen?_alloc_at _ _ _ _ rfl
      rw [hv]
      rw [hv] at hown
      have HV : Hid (u3 = .slice a (cnt s.data.toList s.size) cap) := hv
      clear hv
      go_wp2
      refine bodyPost_ret (v := .agg #[.string s, .slice a (cnt s.data.toList s.size) cap]) (by simp [results, Tryd.results10, go_sem, hc0, hc1]) rfl ⟨_, rfl, ?_, ?_⟩
      · exact ownsRow_setCell_below (ownsRow_setCell_below hown (by simp) _) (by simp) _
      · have h0 : Below w.heap.size w wr := ((Below.refl _ w).alloc (Nat.le_refl _) _).trans (hbel.mono (by simp))
        exact (h0.setCell (by simp) _).setCell (by simp) _
end Go.Proofs.YtmoljdgalonlpabDoor
