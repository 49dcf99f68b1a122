/-
  Helper: the walks of codepoint.begins, Check and Decode.
-/
import Derived.Test.YtpebgggdpgppdaaDoorBase
import Derived.Test.YtpebgggdpgppdaaDoorScan
import Derived.Test.YtpebgggdpgppdaaDoorShelfC
import Derived.WalkKit
import Derived.BigQuiet
import Derived.Deep.QuietTactic
import Derived.Lib.Hide
namespace Go.Proofs.YtpebgggdpgppdaaDoor
open Go.RowKit
set_option linter.unusedVariables false

set_option maxHeartbeats 400000 in
theorem begins_any (t : ByteArray) (r : Int) (w : World) :
    Calls Tryd.prog 13 #[.string t, .int .i32 r] w fun e w' => e = .returned (.bool (r != 65533 || Lib.hasPrefix t.data.toList fffd)) ∧ w = w' := by
  by_cases h : r = 65533
  · subst h
    go_enter Tryd.func13, Tryd.ntmps13
    go_wp2_with fail
    refine (Tryd.strings_HasPrefix _ _ _).mono ?_
    rintro e w' ⟨rfl, rfl⟩
    go_wp2_with fail
    go_ret
    exact ⟨rfl, rfl⟩
  · have hb : (r != 65533) = true := by rw [bne_iff_ne]; exact h
    go_enter Tryd.func13, Tryd.ntmps13
    go_wp2_with fail
    go_ret
    exact ⟨by first | rfl | simp [h], rfl⟩

theorem from_at (s : ByteArray) (p : Nat) : (s.extract p s.size).data.toList = s.data.toList.drop p := by
  rw [extract_l]; rw [List.take_of_length_le (by simp)]

/-- begins, at a place of a string -/
theorem begins_at (s : ByteArray) (p : Nat) (h : p < s.size) (w : World) :
    Calls Tryd.prog 13 #[.string (s.extract p s.size), .int .i32 ((Utf8.decode s p).1 : Int)] w fun e w' => e = .returned (.bool (decide ((sq s p).2 ≠ 0))) ∧ w = w' := by
  have hb := begins_any (s.extract p s.size) ((Utf8.decode s p).1 : Int) w
  rw [from_at, begins_iff s p h] at hb
  exact hb

theorem iter_below (w : World) (s : ByteArray) (p : Nat) : Below w.heap.size w (w.iter s p) := (Below.refl _ w).alloc (Nat.le_refl _) _

/-- what Check answers -/
def chkV (s : ByteArray) : Value := if stop s 0 = s.size then .tuple #[.int .i64 (-1), .int .i64 0] else .tuple #[.int .i64 (stop s 0), .int .i64 11]
theorem chkV_ok (s : ByteArray) (h : stop s 0 = s.size) : chkV s = .tuple #[.int .i64 (-1), .int .i64 0] := if_pos h
theorem chkV_no (s : ByteArray) (h : ¬ stop s 0 = s.size) : chkV s = .tuple #[.int .i64 (stop s 0), .int .i64 11] := if_neg h

set_option maxHeartbeats 1000000 in
set_option maxRecDepth 1000000 in
theorem check_any (s : ByteArray) (w : World) (hs : s.size ≤ 1000000) :
    Calls Tryd.prog 12 #[.string s] w fun e w' => e = .returned (chkV s) ∧ Below w.heap.size w w' := by
  go_enter Tryd.func12, Tryd.ntmps12
  go_wp2
  go_loopw [] (fun w' => ∃ p : Nat, p ≤ s.size ∧ w' = w.iter s p ∧ Hid (stop s p = stop s 0)) (fun w' => s.size - w'.iterPos w.heap.size)
  case atStart => exact ⟨0, Nat.zero_le _, rfl, rfl⟩
  case round =>
    obtain ⟨p, hp, rfl, hst⟩ := hrel
    by_cases hlt : p < s.size
    · have hnx : ∀ ty, (Instr.next (.pointer (some ⟨w.heap.size, 0, none⟩)) true ty).run Tryd.prog (w.iter s p) = _ := fun ty => run_next_any w s p ty hlt
      have HB := Lib.hid (begins_at s p hlt (w.iter s (p + (Utf8.decode s p).2)))
      by_cases hg : (sq s p).2 = 0
      · have hd := (scalars_stop s p hg).2
        rw [decide_eq_false (by simpa using hg)] at HB
        have hres : Hid (stop s 0 = p) := by rw [← hst.out]; exact hd
        have hne : Hid (¬ stop s 0 = s.size) := by rw [hres.out]; exact (by omega : ¬ p = s.size)
        clear hd hg
        go_wp2_with fail
        refine HB.out.mono ?_
        rintro e w1 ⟨rfl, rfl⟩
        go_wp2_with fail
        go_ret2
        rw [chkV_no s hne.out, hres.out]
        exact ⟨rfl, iter_below _ _ _⟩
      · have hd := (scalars_go s p (by omega) hg).2
        have hle := sq_le s p (by omega)
        rw [decide_eq_true hg] at HB
        have hdec := decode_good s p hlt hg
        have hw : Hid ((Utf8.decode s p).2 = (sq s p).2) := by rw [hdec]; exact rfl
        have hn : Hid (stop s (p + (Utf8.decode s p).2) = stop s 0) := by rw [hw.out, ← hst.out]; exact hd.symm
        have hb1 : p + (Utf8.decode s p).2 ≤ s.size := by have := hw.out; omega
        have hb2 : 1 ≤ (Utf8.decode s p).2 := by have := hw.out; omega
        clear hd hg hdec hw hle
        go_wp2_with fail
        refine HB.out.mono ?_
        rintro e w1 ⟨rfl, rfl⟩
        go_wp2_with fail
        go_roundw
        case rel => exact ⟨p + (Utf8.decode s p).2, hb1, rfl, hn⟩
        case measure => simp; omega
    · have hnx : ∀ ty, (Instr.next (.pointer (some ⟨w.heap.size, 0, none⟩)) true ty).run Tryd.prog (w.iter s p) = _ := fun ty => run_next_end w s p ty hlt
      obtain rfl : p = s.size := by omega
      have hres : Hid (stop s 0 = s.size) := by rw [← hst.out]; exact stop_end s
      go_wp2_with fail
      go_ret2
      rw [chkV_ok s hres.out]
      exact ⟨rfl, iter_below _ _ _⟩

/-- numbers as runes' cells -/
def runes (xs : List Nat) : List Value := xs.map fun (n : Nat) => Value.int .i32 (n : Int)
theorem runes_len (xs : List Nat) : (runes xs).length = xs.length := by simp [runes]
theorem info21 : (Tryd.prog.info? 21).map (fun i => (i.zero, i.size, i.bytes)) = some (some (.int .i32 0), 1, 4) := by kernel_rfl

theorem runeCount_le (s : ByteArray) : Lib.runeCount s ≤ s.size := Lib.runeCount_le s

/-- an iterator's block is no row's -/
theorem iter_not_row {w : World} {base : Nat} {e : TypeId} {size : Nat} {v : Value} {n : Nat} {xs : List Value} (h : w.ownsRow base e size v n xs) {k : Nat} {s : ByteArray} {p : Nat} (hk : w.heap[k]? = some (.stringIter s p)) : v.ownBlock ≠ some k := by
  intro hb
  rcases h.2 with ⟨rfl, _⟩ | ⟨g, cap, cur, rfl, _, hg, _⟩
  · simp [Value.ownBlock] at hb
  · simp [Value.ownBlock] at hb
    subst hb
    rw [hg] at hk
    cases hk
theorem row_iterAt {w : World} {base : Nat} {e : TypeId} {size : Nat} {v : Value} {n : Nat} {xs : List Value} (h : w.ownsRow base e size v n xs) {k : Nat} {s : ByteArray} {p : Nat} (hk : w.heap[k]? = some (.stringIter s p)) (p' : Nat) : (w.iterAt k s p').ownsRow base e size v n xs := by
  refine ⟨h.1, ?_⟩
  rcases h.2 with h2 | ⟨g, cap, cur, rfl, hb, hg, hr⟩
  · exact .inl h2
  · refine .inr ⟨g, cap, cur, rfl, hb, ?_, hr⟩
    rw [Lib.iterAt_other _ _ _ _ _ (fun e => by subst e; rw [hg] at hk; cases hk)]
    exact hg
theorem iter_alloc {w : World} {k : Nat} {s : ByteArray} {p : Nat} (hk : w.heap[k]? = some (.stringIter s p)) (o : Obj) : (w.alloc o).heap[k]? = some (.stringIter s p) := by
  rw [Below.heap_alloc w o k (Array.getElem?_eq_some_iff.1 hk).1]; exact hk

/-- a valid string: no place up to its end at which no sequence begins -/
def valid (s : ByteArray) : Prop := stop s 0 = s.size

set_option maxHeartbeats 1000000 in
theorem decode_no (s : ByteArray) (w : World) (hs : s.size ≤ 1000000) (hv : ¬ valid s) :
    Calls Tryd.prog 11 #[.string s] w fun e w' => e = .returned (.tuple #[.slice none 0 0, .int .i64 11]) ∧ Below w.heap.size w w' := by
  have hc := check_any s w hs
  rw [chkV_no s hv] at hc
  have HC := Lib.hid hc
  clear hc
  go_enter Tryd.func11, Tryd.ntmps11
  go_wp2_with fail
  refine HC.out.mono ?_
  rintro e w1 ⟨rfl, hb⟩
  go_wp2_with fail
  go_ret2
  exact ⟨rfl, hb⟩

/-- at every place that the reading of a valid string comes to, a sequence begins -/
theorem valid_step (s : ByteArray) (p : Nat) (hp : p < s.size) (h : stop s p = s.size) : (sq s p).2 ≠ 0 := by
  intro g
  rw [(scalars_stop s p g).2] at h
  omega

set_option maxHeartbeats 2000000 in
set_option maxRecDepth 1000000 in
theorem decode_yes (s : ByteArray) (w : World) (hs : s.size ≤ 1000000) (hv : valid s) :
    Calls Tryd.prog 11 #[.string s] w fun e w' => ∃ v, e = .returned (.tuple #[v, .int .i64 0]) ∧ w'.ownsRow w.heap.size 21 1 v (scalars s 0).length (runes (scalars s 0)) ∧ Below w.heap.size w w' := by
  obtain ⟨i0, hi, hz0, hz1, hz2⟩ := info_parts info21
  have hrc := runeCount_le s
  have hc := check_any s w hs
  rw [chkV_ok s hv] at hc
  have HC := Lib.hid hc
  have HV := Lib.hid hv
  clear hc hv
  go_enter Tryd.func11, Tryd.ntmps11
  go_wp2_with fail
  refine HC.out.mono ?_
  rintro e w1 ⟨rfl, hb⟩
  go_wp2_with fail
  refine (runeCount_any s w1 (by omega)).mono ?_
  rintro e w2 ⟨rfl, pos, rfl⟩
  have hb2 : Below w.heap.size w (w1.iter s pos) := hb.trans ((iter_below w1 s pos).mono hb.size)
  generalize w1.iter s pos = w2 at *
  clear hb HC
  go_wp2_with (at_make; refine wpList_make_own _ rfl _ _ 27 rfl w.heap.size 21 i0 (.int .i32 0) 1 Tryd.underlying27 hi hz0 hz1 .i64 .i64 _ _ rfl rfl rfl ?c1 ?c2 ?c3 ?_)
  case c1 => rw [hz2]; omega
  case c2 => unfold maxLen; omega
  case c3 => exact hb2.size
  intro w3 hown hgr
  have hbel : Below w.heap.size w w3 := hb2.grown hgr hb2.size (by simp)
  clear hgr hb2
  go_wp2_with fail
  have hkb : w.heap.size ≤ w3.heap.size := hbel.size
  go_loopw [6] (fun v wr => ∃ (p : Nat) (acc : List Nat), p ≤ s.size ∧ acc.length ≤ p ∧ wr.heap[w3.heap.size]? = some (.stringIter s p) ∧ wr.ownsRow w.heap.size 21 1 v acc.length (runes acc) ∧ Below w.heap.size w wr ∧ Hid (acc ++ scalars s p = scalars s 0 ∧ stop s p = s.size)) (fun _ wr => s.size - wr.iterPos w3.heap.size)
  case atStart => exact ⟨0, [], Nat.zero_le _, Nat.le_refl _, by have := World.iter_heap w3 s 0; simpa using this, hown.alloc _, hbel.trans ((iter_below w3 s 0).mono hkb), rfl, HV.out⟩
  case round =>
    clear hown hbel
    obtain ⟨p, acc, hp, hacc, hit, hown, hbel, HS⟩ := hrel
    have hbr : w.heap.size ≤ wr.heap.size := hbel.size
    by_cases hlt : p < s.size
    · have hg := valid_step s p hlt HS.out.2
      have hdec := decode_good s p hlt hg
      have hgo := scalars_go s p (by omega) hg
      have hle := sq_le s p (by omega)
      have hnx : ∀ ty, (Instr.next (.pointer (some ⟨w3.heap.size, 0, none⟩)) true ty).run Tryd.prog wr = _ := fun ty => Lib.run_next_any_at wr w3.heap.size s p ty hit hlt
      have hw1 : Hid ((Utf8.decode s p).2 = (sq s p).2) := by rw [hdec]; exact rfl
      have hr1 : Hid ((Utf8.decode s p).1 = (sq s p).1) := by rw [hdec]; exact rfl
      have HS2 : Hid ((acc ++ [(Utf8.decode s p).1]) ++ scalars s (p + (Utf8.decode s p).2) = scalars s 0 ∧ stop s (p + (Utf8.decode s p).2) = s.size) := by
        rw [hw1.out, hr1.out]
        refine ⟨?_, by rw [← hgo.2]; exact HS.out.2⟩
        rw [← HS.out.1, hgo.1, List.append_assoc]; rfl
      have hb1 : p + (Utf8.decode s p).2 ≤ s.size := by have := hw1.out; omega
      have hb2 : 1 ≤ (Utf8.decode s p).2 := by have := hw1.out; omega
      clear hg hdec hgo hle hw1 hr1 HS
      have hown2 := row_iterAt hown hit (p + (Utf8.decode s p).2)
      have hit2 := Lib.iterAt_heap wr w3.heap.size s p (p + (Utf8.decode s p).2) hit
      have hbel2 := Lib.below_iterAt hbel (k := w3.heap.size) hkb s (p + (Utf8.decode s p).2)
      have hbr2 : w.heap.size ≤ (wr.iterAt w3.heap.size s (p + (Utf8.decode s p).2)).heap.size := by rw [Lib.iterAt_size]; exact hbr
      clear hown hbel
      have hsz2 := Lib.iterAt_size wr w3.heap.size s (p + (Utf8.decode s p).2)
      generalize wr.iterAt w3.heap.size s (p + (Utf8.decode s p).2) = wx at *
      clear hsz2
      go_wp2_with (at_builtin; refine wpList_append_own _ rfl _ _ 27 rfl w.heap.size 21 i0 (.int .i32 0) 1 4 Tryd.underlying27 hi hz0 hz1 hz2 rfl (by decide) _ _ _ rfl (hown2.alloc _) ⟨wx.heap.size, 0, none⟩ 1 1 [.int .i32 ((Utf8.decode s p).1 : Int)] rfl rfl ?c1 ?c2 ?c3 ?c4 ?c5 ?_)
      case c1 => exact cell_one wx _ _
      case c2 => simp [Value.oneCell']
      case c3 => unfold maxLen; omega
      case c4 => omega
      case c5 => simp; omega
      intro v' w5 hown' hgr' _
      have hit5 : w5.heap[w3.heap.size]? = some (.stringIter s (p + (Utf8.decode s p).2)) := by
        rw [hgr'.block _ (by have := (Array.getElem?_eq_some_iff.1 hit2).1; simp; omega) (fun e => iter_not_row hown2 hit2 e.symm)]
        exact iter_alloc hit2 _
      have hbel5 : Below w.heap.size w w5 := (hbel2.alloc hbr2 _).grown hgr' (by simp; omega) (fun b hb => World.ownsRow.ownBlock_le hown2 b hb)
      have hown5 : w5.ownsRow w.heap.size 21 1 v' (acc ++ [(Utf8.decode s p).1]).length (runes (acc ++ [(Utf8.decode s p).1])) := by
        have e1 : (acc ++ [(Utf8.decode s p).1]).length = acc.length + 1 := by simp
        have e2 : runes (acc ++ [(Utf8.decode s p).1]) = runes acc ++ [.int .i32 ((Utf8.decode s p).1 : Int)] := by unfold runes; rw [List.map_append]; rfl
        rw [e1, e2]; exact hown'
      have hlen5 : (acc ++ [(Utf8.decode s p).1]).length ≤ p + (Utf8.decode s p).2 := by simp; omega
      clear hown2 hown' hgr' hbel2 hit2
      go_wp2_with fail
      go_roundw
      case rel => exact ⟨p + (Utf8.decode s p).2, acc ++ [(Utf8.decode s p).1], hb1, hlen5, hit5, hown5, hbel5, HS2⟩
      case measure =>
        simp only [World.iterPos, hit5, hit]
        omega
    · have hnx : ∀ ty, (Instr.next (.pointer (some ⟨w3.heap.size, 0, none⟩)) true ty).run Tryd.prog wr = _ := fun ty => Lib.run_next_end_at wr w3.heap.size s p ty hit hlt
      obtain rfl : p = s.size := by omega
      have hres : Hid (acc = scalars s 0) := by have := HS.out.1; rw [scalars_end, List.append_nil] at this; exact this
      go_wp2_with fail
      go_ret2
      rw [hres.out] at hown
      exact ⟨_, rfl, hown, hbel⟩
end Go.Proofs.YtpebgggdpgppdaaDoor
