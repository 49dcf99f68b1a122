/-
  Helper: the walks of the reference's Decode, Valid and Extensible.
-/
import Derived.Test.YtpebgggdpgppdaaDoorRefAt
namespace Go.Proofs.YtpebgggdpgppdaaDoor
open Go.RowKit
set_option linter.unusedVariables false

/-- the place that the reference's Decode answers: -1 for a valid string -/
def badAt (s : ByteArray) : Int := if stop s 0 = s.size then -1 else stop s 0
theorem badAt_ok (s : ByteArray) (h : stop s 0 = s.size) : badAt s = -1 := if_pos h
theorem badAt_no (s : ByteArray) (h : ¬ stop s 0 = s.size) : badAt s = stop s 0 := if_neg h

theorem row_below {w w' : World} {base : Nat} {e : TypeId} {size : Nat} {v : Value} {n : Nat} {xs : List Value} (h : w.ownsRow base e size v n xs) (hb : Below w.heap.size w w') : w'.ownsRow base e size v n xs := by
  refine ⟨h.1, ?_⟩
  rcases h.2 with h2 | ⟨g, cap, cur, rfl, hg, hh, hr⟩
  · exact .inl h2
  · exact .inr ⟨g, cap, cur, rfl, hg, by rw [hb.block g (Array.getElem?_eq_some_iff.1 hh).1]; exact hh, hr⟩
theorem sq_i32 (s : ByteArray) (p : Nat) (hp : p < s.size) (hg : (sq s p).2 ≠ 0) : (sq s p).1 ≤ 2147483647 := by
  rw [← decode_good s p hp hg]; exact decode_le s p

set_option maxHeartbeats 2000000 in
set_option maxRecDepth 100000 in
theorem refDecode_any (s : ByteArray) (w : World) (hs : s.size ≤ 100000) :
    Calls Tryd.prog 8 #[.string s] w fun e w' => ∃ v, e = .returned (.tuple #[v, .int .i64 (badAt s)]) ∧ w'.ownsRow w.heap.size 21 1 v (scalars s 0).length (runes (scalars s 0)) ∧ Below w.heap.size w w' := by
  obtain ⟨i0, hi, hz0, hz1, hz2⟩ := info_parts info21
  have HAT := Lib.hid (fun p w hp => refAt_any s p w hs hp)
  go_enter Tryd.func8, Tryd.ntmps8
  go_wp2_with fail
  go_loopw [4, 5] (fun v c wr => ∃ (p : Nat) (acc : List Nat), p ≤ s.size ∧ acc.length ≤ p ∧ c = .int .i64 p ∧ wr.ownsRow w.heap.size 21 1 v acc.length (runes acc) ∧ Below w.heap.size w wr ∧ Hid (acc ++ scalars s p = scalars s 0 ∧ stop s p = stop s 0)) (fun _ c _ => s.size - (intOf c).toNat)
  case atStart => exact ⟨0, [], Nat.zero_le _, Nat.le_refl _, rfl, ⟨rfl, .inl ⟨rfl, rfl⟩⟩, Below.refl _ _, rfl, rfl⟩
  case round =>
    obtain ⟨p, acc, hp, hacc, rfl, hown, hbel, HS⟩ := hrel
    have hbr : w.heap.size ≤ wr.heap.size := hbel.size
    by_cases hlt : p < s.size
    · have hAT := Lib.hid (fun w => HAT.out p w hp)
      by_cases hg : (sq s p).2 = 0
      · have hz := scalars_stop s p hg
        have hst : Hid (stop s 0 = p) := by rw [← HS.out.2]; exact hz.2
        have hsc : Hid (scalars s 0 = acc) := by rw [← HS.out.1, hz.1]; exact List.append_nil _
        have hbad : Hid (badAt s = p) := by rw [badAt_no s (by rw [hst.out]; omega), hst.out]; exact rfl
        have hg0 : (((sq s p).2 : Int) == 0) = true := by rw [beq_iff_eq]; omega
        clear hz hg HS
        generalize sq s p = g at *
        go_wp2_with fail
        refine (hAT.out _).mono ?_
        rintro e w1 ⟨rfl, hb1⟩
        have hown1 : w1.ownsRow w.heap.size 21 1 u4 acc.length (runes acc) := row_below hown hb1
        have hbel1 : Below w.heap.size w w1 := hbel.trans (hb1.mono hbr)
        clear hown hbel hb1
        go_wp2_with fail
        go_ret2
        rw [hbad.out, hsc.out]
        exact ⟨_, rfl, hown1, hbel1⟩
      · have hgo := scalars_go s p (by omega) hg
        have hle := sq_le s p (by omega)
        have h32 := sq_i32 s p hlt hg
        have hg0 : (((sq s p).2 : Int) == 0) = false := by rw [beq_eq_false_iff_ne]; omega
        have HS2 : Hid ((acc ++ [(sq s p).1]) ++ scalars s (p + (sq s p).2) = scalars s 0 ∧ stop s (p + (sq s p).2) = stop s 0) := by
          refine ⟨?_, by rw [← hgo.2]; exact HS.out.2⟩
          rw [← HS.out.1, hgo.1, List.append_assoc]; rfl
        clear hgo HS
        generalize sq s p = g at *
        go_wp2_with fail
        refine (hAT.out _).mono ?_
        rintro e w1 ⟨rfl, hb1⟩
        have hown1 := row_below hown hb1
        have hbel1 : Below w.heap.size w w1 := hbel.trans (hb1.mono hbr)
        have hbr1 : w.heap.size ≤ w1.heap.size := hbel1.size
        clear hown hbel hb1
        go_wp2_with (at_builtin; refine wpList_append_own _ rfl _ _ 27 rfl w.heap.size 21 i0 (.int .i32 0) 1 4 Tryd.underlying27 hi hz0 hz1 hz2 rfl (by decide) _ _ _ rfl (hown1.alloc _) ⟨w1.heap.size, 0, none⟩ 1 1 [.int .i32 (g.1 : Int)] rfl ?c0 ?c1 ?c2 ?c3 ?c4 ?c5 ?_)
        case c0 => rfl
        case c1 => exact cell_one w1 _ _
        case c2 => simp [Value.oneCell']
        case c3 => unfold maxLen; omega
        case c4 => omega
        case c5 => simp; omega
        intro v' w5 hown' hgr' _
        have hbel5 : Below w.heap.size w w5 := (hbel1.alloc hbr1 _).grown hgr' (by simp; omega) (fun b hb => World.ownsRow.ownBlock_le hown1 b hb)
        have hown5 : w5.ownsRow w.heap.size 21 1 v' (acc ++ [g.1]).length (runes (acc ++ [g.1])) := by
          have e1 : (acc ++ [g.1]).length = acc.length + 1 := by simp
          have e2 : runes (acc ++ [g.1]) = runes acc ++ [.int .i32 (g.1 : Int)] := by unfold runes; rw [List.map_append]; rfl
          rw [e1, e2]; exact hown'
        have hlen5 : (acc ++ [g.1]).length ≤ p + g.2 := by simp; omega
        clear hown1 hown' hgr' hbel1
        go_wp2_with fail
        go_roundw
        case rel => exact ⟨p + g.2, acc ++ [g.1], hle.1, hlen5, by go_num, hown5, hbel5, HS2⟩
        case measure => simp [intOf]; omega
    · obtain rfl : p = s.size := by omega
      have hst : Hid (stop s 0 = s.size) := by rw [← HS.out.2]; exact stop_end s
      have hsc : Hid (scalars s 0 = acc) := by rw [← HS.out.1, scalars_end]; exact List.append_nil _
      have hbad : Hid (badAt s = -1) := badAt_ok s hst.out
      go_wp2_with fail
      go_ret2
      rw [hbad.out, hsc.out]
      exact ⟨_, rfl, hown, hbel⟩
end Go.Proofs.YtpebgggdpgppdaaDoor
