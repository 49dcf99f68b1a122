/-
  Helper: the walk of a Feeder's Feed.
-/
import Derived.Test.YtpebgggdpgppdaaDoorCpFeed
import Derived.Test.YtpebgggdpgppdaaDoorFullAny
import Derived.Test.YtpebgggdpgppdaaDoorRefDec
namespace Go.Proofs.YtpebgggdpgppdaaDoor
open Go.RowKit
set_option linter.unusedVariables false

/-- the bytes that a feeder holds, in front of a part -/
def txt (q : List UInt8) (part : ByteArray) : ByteArray := ⟨q.toArray⟩ ++ part
def fq (q : List UInt8) : Value := fv (q.map (·.toNat))
theorem txt_size (q : List UInt8) (part : ByteArray) : (txt q part).size = q.length + part.size := by
  unfold txt; rw [ByteArray.size_append]; rfl
theorem from_ext (s : ByteArray) (p : Nat) : bytesFrom (s.extract p s.size) 0 = bytesFrom s p := by
  unfold bytesFrom; rw [List.drop_zero, from_at]

theorem fq_eq (q : List UInt8) : fq q = .agg #[.int .u8 (hb (q.map (·.toNat)) 0), .int .u8 (hb (q.map (·.toNat)) 1), .int .u8 (hb (q.map (·.toNat)) 2), .int .i64 q.length] := by
  unfold fq fv; rw [List.length_map]
theorem hb_at (q : List UInt8) (j : Nat) (h : j < q.length) : hb (q.map (·.toNat)) j = (q[j].toNat : Int) := by
  unfold hb; rw [List.getD_eq_getElem?_getD, List.getElem?_map, List.getElem?_eq_getElem h]; rfl

/-- what Feed lays before its loop: its receiver's box and its result's -/
def F0 (w : World) (q : List UInt8) : World := (w.alloc (.cells #[.int .u8 (hb (q.map (·.toNat)) 0), .int .u8 (hb (q.map (·.toNat)) 1), .int .u8 (hb (q.map (·.toNat)) 2), .int .i64 q.length] 26)).alloc (.cells #[.int .u8 0, .int .u8 0, .int .u8 0, .int .i64 0] 26)

theorem feed_conv (w : World) (q : List UInt8) (hq : q.length ≤ 3) :
    (convert 42 9 (.slice (some ⟨w.heap.size, 0, none⟩) q.length 3)).run Tryd.prog (F0 w q) = .ok (.string ⟨q.toArray⟩) (F0 w q) := by
  refine run_convert_bytes_back (F0 w q) 42 9 5 ⟨w.heap.size, 0, none⟩ 3 q Tryd.underlying42 Tryd.underlying5 Tryd.underlying9 (fun j hj => ?_)
  have e : (⟨w.heap.size, 0, none⟩ : Addr).add j = ⟨w.heap.size, j, none⟩ := by cases j <;> simp [Addr.add]
  rw [e]
  unfold F0
  rw [World.cell?_alloc_past _ _ _ (by simp), World.cell?_alloc_at _ _ _ _ rfl, ← hb_at q j hj]
  have hj3 : j < 3 := by omega
  match j, hj3 with
  | 0, _ => rfl
  | 1, _ => rfl
  | 2, _ => rfl

theorem slice_held0 (B : Nat) (W : World) : (Instr.sliceAt 24 (.pointer (some ⟨B, 0, none⟩)) none (some (.int .i64 0)) none).run Tryd.prog W = .ok (.slice (some ⟨B, 0, none⟩) 0 3) W := by kernel_rfl
theorem slice_held1 (B : Nat) (W : World) : (Instr.sliceAt 24 (.pointer (some ⟨B, 0, none⟩)) none (some (.int .i64 1)) none).run Tryd.prog W = .ok (.slice (some ⟨B, 0, none⟩) 1 3) W := by kernel_rfl
theorem slice_held2 (B : Nat) (W : World) : (Instr.sliceAt 24 (.pointer (some ⟨B, 0, none⟩)) none (some (.int .i64 2)) none).run Tryd.prog W = .ok (.slice (some ⟨B, 0, none⟩) 2 3) W := by kernel_rfl
theorem slice_held3 (B : Nat) (W : World) : (Instr.sliceAt 24 (.pointer (some ⟨B, 0, none⟩)) none (some (.int .i64 3)) none).run Tryd.prog W = .ok (.slice (some ⟨B, 0, none⟩) 3 3) W := by kernel_rfl
theorem slice_held (B n : Nat) (hn : n ≤ 3) (W : World) : (Instr.sliceAt 24 (.pointer (some ⟨B, 0, none⟩)) none (some (.int .i64 (n : Int))) none).run Tryd.prog W = .ok (.slice (some ⟨B, 0, none⟩) n 3) W := by
  have hn4 : n = 0 ∨ n = 1 ∨ n = 2 ∨ n = 3 := by omega
  rcases hn4 with rfl | rfl | rfl | rfl
  · exact slice_held0 B W
  · exact slice_held1 B W
  · exact slice_held2 B W
  · exact slice_held3 B W

/-- the result's box, as Feed lays it -/
def Res0 (k : Nat) (W : World) : Prop := (W.cell? ⟨k, 0, none⟩ = some (.int .u8 0) ∧ W.cell? ⟨k, 1, none⟩ = some (.int .u8 0) ∧ W.cell? ⟨k, 2, none⟩ = some (.int .u8 0) ∧ W.cell? ⟨k, 3, none⟩ = some (.int .i64 0)) ∧
  W.frozen? ⟨k, 0, none⟩ = false ∧ W.frozen? ⟨k, 1, none⟩ = false ∧ W.frozen? ⟨k, 2, none⟩ = false ∧ W.frozen? ⟨k, 3, none⟩ = false
theorem Res0.kept {k : Nat} {W W' : World} (h : Res0 k W) (hk : W.heap.size = k + 1) (hb : Below (k + 1) W W') :
    W'.cell? ⟨k, 0, none⟩ = some (.int .u8 0) ∧ W'.cell? ⟨k, 1, none⟩ = some (.int .u8 0) ∧ W'.cell? ⟨k, 2, none⟩ = some (.int .u8 0) ∧ W'.cell? ⟨k, 3, none⟩ = some (.int .i64 0) ∧
    W'.frozen? ⟨k, 0, none⟩ = false ∧ W'.frozen? ⟨k, 1, none⟩ = false ∧ W'.frozen? ⟨k, 2, none⟩ = false ∧ W'.frozen? ⟨k, 3, none⟩ = false := by
  obtain ⟨⟨c0, c1, c2, c3⟩, f0, f1, f2, f3⟩ := h
  refine ⟨?_, ?_, ?_, ?_, ?_, ?_, ?_, ?_⟩
  · rw [hb.cell (by show k < _; omega)]; exact c0
  · rw [hb.cell (by show k < _; omega)]; exact c1
  · rw [hb.cell (by show k < _; omega)]; exact c2
  · rw [hb.cell (by show k < _; omega)]; exact c3
  · rw [hb.frozen (by show k < _; omega)]; exact f0
  · rw [hb.frozen (by show k < _; omega)]; exact f1
  · rw [hb.frozen (by show k < _; omega)]; exact f2
  · rw [hb.frozen (by show k < _; omega)]; exact f3
def F0W (w : World) (b0 b1 b2 : Int) (n : Nat) (W : World) : Prop := W.heap.size = w.heap.size + 1 + 1 ∧ Below w.heap.size w W ∧ Res0 (w.heap.size + 1) W
theorem f0w (w : World) (b0 b1 b2 : Int) (n : Nat) : F0W w b0 b1 b2 n ((w.alloc (.cells #[.int .u8 b0, .int .u8 b1, .int .u8 b2, .int .i64 n] 26)).alloc (.cells #[.int .u8 0, .int .u8 0, .int .u8 0, .int .i64 0] 26)) := by
  refine ⟨by simp, ((Below.refl _ w).alloc (Nat.le_refl _) _).alloc (by simp) _, ⟨?_, ?_, ?_, ?_⟩, ?_, ?_, ?_, ?_⟩
  · rw [World.cell?_alloc_at _ _ _ _ (by simp)]; rfl
  · rw [World.cell?_alloc_at _ _ _ _ (by simp)]; rfl
  · rw [World.cell?_alloc_at _ _ _ _ (by simp)]; rfl
  · rw [World.cell?_alloc_at _ _ _ _ (by simp)]; rfl
  · exact World.frozen?_alloc_at _ _ _ _ (by simp)
  · exact World.frozen?_alloc_at _ _ _ _ (by simp)
  · exact World.frozen?_alloc_at _ _ _ _ (by simp)
  · exact World.frozen?_alloc_at _ _ _ _ (by simp)

def FeedPost (t : ByteArray) (p : Nat) (w : World) (e : Ending) (w' : World) : Prop :=
      ((p = t.size ∨ incomplete (bytesFrom t p)) ∧ ∃ v, e = .returned (.tuple #[fv (bytesFrom t p), v, .int .i64 0]) ∧ w'.ownsRow w.heap.size 21 1 v (scalars t 0).length (runes (scalars t 0)) ∧ Below w.heap.size w w') ∨
      (¬ (p = t.size ∨ incomplete (bytesFrom t p)) ∧ e = .returned (.tuple #[fv [], .slice none 0 0, .int .i64 11]) ∧ Below w.heap.size w w')

theorem row_base {w : World} {base base' : Nat} {e : TypeId} {size : Nat} {v : Value} {n : Nat} {xs : List Value} (h : w.ownsRow base e size v n xs) (hb : base' ≤ base) : w.ownsRow base' e size v n xs := by
  refine ⟨h.1, ?_⟩
  rcases h.2 with h2 | ⟨g, cap, cur, hv, hg, hr⟩
  · exact .inl h2
  · exact .inr ⟨g, cap, cur, hv, by omega, hr⟩

theorem below_set4 (W : World) (k : Nat) (a b c d : Value) : Below k W ((((W.setCell ⟨k, 0, none⟩ a).setCell ⟨k, 1, none⟩ b).setCell ⟨k, 2, none⟩ c).setCell ⟨k, 3, none⟩ d) :=
  ((((Below.refl k W).setCell (p := ⟨k, 0, none⟩) (Nat.le_refl _) a).setCell (p := ⟨k, 1, none⟩) (Nat.le_refl _) b).setCell (p := ⟨k, 2, none⟩) (Nat.le_refl _) c).setCell (p := ⟨k, 3, none⟩) (Nat.le_refl _) d
theorem row_set4 {W : World} {base : Nat} {e : TypeId} {size : Nat} {v : Value} {n : Nat} {xs : List Value} (h : W.ownsRow base e size v n xs) {k : Nat} (hk : k < base) (a b c d : Value) : ((((W.setCell ⟨k, 0, none⟩ a).setCell ⟨k, 1, none⟩ b).setCell ⟨k, 2, none⟩ c).setCell ⟨k, 3, none⟩ d).ownsRow base e size v n xs :=
  ownsRow_setCell_below (a := ⟨k, 3, none⟩) (ownsRow_setCell_below (a := ⟨k, 2, none⟩) (ownsRow_setCell_below (a := ⟨k, 1, none⟩) (ownsRow_setCell_below (a := ⟨k, 0, none⟩) h hk a) hk b) hk c) hk d

set_option maxHeartbeats 1500000 in
set_option maxRecDepth 1000000 in
theorem feed_core (q : List UInt8) (hq : q.length ≤ 3) (part : ByteArray) (hp : part.size ≤ 100000) (w : World) (hT : Tabs w) (t : ByteArray) (ht : t = txt q part) (p : Nat) (hst : p = stop t 0) :
    Calls Tryd.prog 5 #[fq q, .string part] w (FeedPost t p w) := by
  obtain ⟨i0, hi, hz0, hz1, hz2⟩ := info_parts info21
  have hcv := feed_conv w q hq
  have hts : t.size ≤ 100003 := by rw [ht, txt_size]; omega
  rw [fq_eq]
  have hqs : (⟨q.toArray⟩ : ByteArray).size ≤ 3 := hq
  have hcat : (⟨q.toArray⟩ : ByteArray) ++ part = t := ht.symm
  unfold F0 at hcv
  generalize hb (q.map (·.toNat)) 0 = b0 at *
  generalize hb (q.map (·.toNat)) 1 = b1 at *
  generalize hb (q.map (·.toNat)) 2 = b2 at *
  generalize (⟨q.toArray⟩ : ByteArray) = qs at *
  generalize q.length = n at *
  have hsl := fun W => slice_held w.heap.size n hq W
  have hst2 := Lib.hid hst
  clear ht hst
  go_enter Tryd.func5, Tryd.ntmps5
  go_wp2_with fail
  have hF : F0W w b0 b1 b2 n ((w.alloc (.cells #[.int .u8 b0, .int .u8 b1, .int .u8 b2, .int .i64 n] 26)).alloc (.cells #[.int .u8 0, .int .u8 0, .int .u8 0, .int .i64 0] 26)) := f0w w b0 b1 b2 n
  generalize (w.alloc (.cells #[.int .u8 b0, .int .u8 b1, .int .u8 b2, .int .i64 n] 26)).alloc (.cells #[.int .u8 0, .int .u8 0, .int .u8 0, .int .i64 0] 26) = W0 at *
  have hF0 := Lib.hid hF
  have hW0s : W0.heap.size = w.heap.size + 1 + 1 := hF.1
  have HT := Lib.hid hT
  have hW0 := Lib.hid hW0s
  have hit0 : (W0.iter t 0).heap[w.heap.size + 1 + 1]? = some (.stringIter t 0) := by rw [← hW0s]; have := World.iter_heap W0 t 0; simpa using this
  have hbi0 : Below (w.heap.size + 1 + 1) W0 (W0.iter t 0) := by have := iter_below W0 t 0; rw [hW0s] at this; exact this
  clear hF hW0s hT hcv hsl hcat
  go_loopw [8] (fun v wr => ∃ (p' : Nat) (acc : List Nat), p' ≤ t.size ∧ acc.length ≤ p' ∧ wr.heap[w.heap.size + 1 + 1]? = some (.stringIter t p') ∧ wr.ownsRow (w.heap.size + 1 + 1) 21 1 v acc.length (runes acc) ∧ Below (w.heap.size + 1 + 1) W0 wr ∧ Hid (acc ++ scalars t p' = scalars t 0 ∧ stop t p' = p)) (fun _ wr => t.size - wr.iterPos (w.heap.size + 1 + 1))
  case atStart => exact ⟨0, [], Nat.zero_le _, Nat.le_refl _, hit0, ⟨rfl, .inl ⟨rfl, rfl⟩⟩, hbi0, rfl, hst2.out.symm⟩
  case round =>
    clear hit0 hbi0
    obtain ⟨p', acc, hp', hacc, hit, hown, hbel, HS⟩ := hrel
    have hbr : w.heap.size + 1 + 1 ≤ wr.heap.size := by have := hbel.size; have := hW0.out; omega
    by_cases hlt : p' < t.size
    · have hnx : ∀ ty, (Instr.next (.pointer (some ⟨w.heap.size + 1 + 1, 0, none⟩)) true ty).run Tryd.prog wr = _ := fun ty => Lib.run_next_any_at wr (w.heap.size + 1 + 1) t p' ty hit hlt
      have hown2 := row_iterAt hown hit (p' + (Utf8.decode t p').2)
      have hit2 := Lib.iterAt_heap wr (w.heap.size + 1 + 1) t p' (p' + (Utf8.decode t p').2) hit
      have hbel2 := Lib.below_iterAt hbel (k := w.heap.size + 1 + 1) (Nat.le_refl _) t (p' + (Utf8.decode t p').2)
      have hsz2 := Lib.iterAt_size wr (w.heap.size + 1 + 1) t (p' + (Utf8.decode t p').2)
      have HB := Lib.hid (begins_at t p' hlt (wr.iterAt (w.heap.size + 1 + 1) t (p' + (Utf8.decode t p').2)))
      have hbr2 : w.heap.size + 1 + 1 ≤ (wr.iterAt (w.heap.size + 1 + 1) t (p' + (Utf8.decode t p').2)).heap.size := by rw [hsz2]; exact hbr
      clear hown hbel hsz2
      by_cases hg : (sq t p').2 = 0
      · rw [decide_eq_false (by simpa using hg)] at HB
        have hz := scalars_stop t p' hg
        have hpp : Hid (p = p') := by rw [← HS.out.2]; exact hz.2
        have hsc : Hid (scalars t 0 = acc) := by rw [← HS.out.1, hz.1]; exact List.append_nil _
        generalize wr.iterAt (w.heap.size + 1 + 1) t (p' + (Utf8.decode t p').2) = wx at *
        have hTx : Tabs wx := HT.out.below ((hF0.out.2.1).trans (hbel2.mono (by omega)))
        have hfr := frune_any (t.extract p' t.size) wx (by rw [ByteArray.size_extract]; omega) (by rw [ByteArray.size_extract]; omega) hTx
        rw [from_ext] at hfr
        clear hz hg HS hTx
        by_cases hinc : incomplete (bytesFrom t p')
        · have hfr2 := hfr
          rw [decide_eq_true hinc] at hfr2
          have HFR := Lib.hid hfr2
          have hlen3 : t.size - p' ≤ 3 := by have := hinc.1; rw [bytesFrom_len] at this; exact this
          have HH : Hid (∀ w, Calls Tryd.prog 15 #[.string (t.extract p' t.size)] w fun e w' => e = .returned (fv (bytesFrom t p')) ∧ Below w.heap.size w w') := fun w => by
            have := hold_any (t.extract p' t.size) (by rw [ByteArray.size_extract]; omega) (by rw [ByteArray.size_extract]; omega) w
            rw [from_ext] at this; exact this
          have hI : Hid (incomplete (bytesFrom t p')) := hinc
          clear hfr hfr2 hinc
          go_wp2_with fail
          refine HB.out.mono ?_
          rintro e w5 ⟨rfl, rfl⟩
          go_wp2_with fail
          refine HFR.out.mono ?_
          rintro e w6 ⟨rfl, h6⟩
          go_wp2_with fail
          refine (HH.out _).mono ?_
          rintro e w7 ⟨rfl, h7⟩
          have hown7 := row_below (row_below hown2 h6) h7
          have hbel7 : Below (w.heap.size + 1 + 1) W0 w7 := (hbel2.trans (h6.mono hbr2)).trans (h7.mono (Nat.le_trans hbr2 h6.size))
          clear hown2 hbel2 h6 h7
          obtain ⟨r0, r1, r2, r3, f0, f1, f2, f3⟩ := hF0.out.2.2.kept hW0.out hbel7
          have hY : Hid (∀ W', Below (w.heap.size + 1) W0 W' → W'.ownsRow (w.heap.size + 1 + 1) 21 1 u8 acc.length (runes acc) → FeedPost t p w (.returned (.tuple #[fv (bytesFrom t p'), u8, .int .i64 0])) W') := fun W' hb ho => by
            refine .inl ⟨.inr (by rw [hpp.out]; exact hI.out), u8, by rw [hpp.out], ?_, (hF0.out.2.1).trans (hb.mono (by omega))⟩
            rw [hsc.out]; exact row_base ho (by omega)
          have hY2 : Hid (∀ a b c d, FeedPost t p w (.returned (.tuple #[fv (bytesFrom t p'), u8, .int .i64 0])) ((((w7.setCell ⟨w.heap.size + 1, 0, none⟩ a).setCell ⟨w.heap.size + 1, 1, none⟩ b).setCell ⟨w.heap.size + 1, 2, none⟩ c).setCell ⟨w.heap.size + 1, 3, none⟩ d)) := fun a b c d => hY.out _ ((hbel7.mono (Nat.le_succ _)).trans (below_set4 w7 (w.heap.size + 1) a b c d)) (row_set4 hown7 (Nat.lt_succ_self _) a b c d)
          clear hY hI hsc hpp
          unfold fv at hY2 ⊢
          generalize hb (bytesFrom t p') 0 = y0 at *
          generalize hb (bytesFrom t p') 1 = y1 at *
          generalize hb (bytesFrom t p') 2 = y2 at *
          generalize (bytesFrom t p').length = yl at *
          go_wp2_with fail
          refine bodyPost_ret (v := .tuple #[.agg #[.int .u8 y0, .int .u8 y1, .int .u8 y2, .int .i64 yl], u8, .int .i64 0]) (by simp [results, Tryd.results5, go_sem, r0, r1, r2, r3]) rfl ?_
          exact hY2.out _ _ _ _
        · have hfr2 := hfr
          rw [decide_eq_false hinc] at hfr2
          have HFR := Lib.hid hfr2
          have hY : Hid (∀ W', Below (w.heap.size + 1) W0 W' → FeedPost t p w (.returned (.tuple #[.agg #[.int .u8 0, .int .u8 0, .int .u8 0, .int .i64 0], .slice none 0 0, .int .i64 11])) W') := fun W' hb => by
            refine .inr ⟨?_, rfl, (hF0.out.2.1).trans (hb.mono (by omega))⟩
            rw [hpp.out]
            rintro (h | h)
            · omega
            · exact hinc h
          clear hfr hfr2 hinc hsc hpp
          go_wp2_with fail
          refine HB.out.mono ?_
          rintro e w5 ⟨rfl, rfl⟩
          go_wp2_with fail
          refine HFR.out.mono ?_
          rintro e w6 ⟨rfl, h6⟩
          have hbel6 : Below (w.heap.size + 1 + 1) W0 w6 := hbel2.trans (h6.mono hbr2)
          clear hown2 hbel2 h6
          obtain ⟨r0, r1, r2, r3, f0, f1, f2, f3⟩ := hF0.out.2.2.kept hW0.out hbel6
          have hY2 : Hid (∀ a b c d, FeedPost t p w (.returned (.tuple #[.agg #[.int .u8 0, .int .u8 0, .int .u8 0, .int .i64 0], .slice none 0 0, .int .i64 11])) ((((w6.setCell ⟨w.heap.size + 1, 0, none⟩ a).setCell ⟨w.heap.size + 1, 1, none⟩ b).setCell ⟨w.heap.size + 1, 2, none⟩ c).setCell ⟨w.heap.size + 1, 3, none⟩ d)) := fun a b c d => hY.out _ ((hbel6.mono (Nat.le_succ _)).trans (below_set4 w6 (w.heap.size + 1) a b c d))
          clear hY
          go_wp2_with fail
          refine bodyPost_ret (v := .tuple #[.agg #[.int .u8 0, .int .u8 0, .int .u8 0, .int .i64 0], .slice none 0 0, .int .i64 11]) (by simp [results, Tryd.results5, go_sem, r0, r1, r2, r3]) rfl ?_
          exact hY2.out _ _ _ _
      · have hgo := scalars_go t p' (by omega) hg
        have hle := sq_le t p' (by omega)
        have hdec := decode_good t p' hlt hg
        rw [decide_eq_true hg] at HB
        have hw1 : Hid ((Utf8.decode t p').2 = (sq t p').2) := by rw [hdec]; exact rfl
        have hr1 : Hid ((Utf8.decode t p').1 = (sq t p').1) := by rw [hdec]; exact rfl
        have HS2 : Hid ((acc ++ [(Utf8.decode t p').1]) ++ scalars t (p' + (Utf8.decode t p').2) = scalars t 0 ∧ stop t (p' + (Utf8.decode t p').2) = p) := by
          rw [hw1.out, hr1.out]
          refine ⟨?_, by rw [← hgo.2]; exact HS.out.2⟩
          rw [← HS.out.1, hgo.1, List.append_assoc]; rfl
        have hb1' : p' + (Utf8.decode t p').2 ≤ t.size := by have := hw1.out; omega
        have hb2' : 1 ≤ (Utf8.decode t p').2 := by have := hw1.out; omega
        clear hg hdec hgo hle hw1 hr1 HS
        generalize wr.iterAt (w.heap.size + 1 + 1) t (p' + (Utf8.decode t p').2) = wx at *
        go_wp2_with fail
        refine HB.out.mono ?_
        rintro e w5 ⟨rfl, rfl⟩
        go_wp2_with (at_builtin; refine wpList_append_own _ rfl _ _ 27 rfl (w.heap.size + 1 + 1) 21 i0 (.int .i32 0) 1 4 Tryd.underlying27 hi hz0 hz1 hz2 rfl (by decide) _ _ _ rfl (hown2.alloc _) ⟨wx.heap.size, 0, none⟩ 1 1 [.int .i32 ((Utf8.decode t p').1 : Int)] rfl rfl ?c1 ?c2 ?c3 ?c4 ?c5 ?_)
        case c1 => exact cell_one wx _ _
        case c2 => simp [Value.oneCell']
        case c3 => unfold maxLen; omega
        case c4 => omega
        case c5 => simp; omega
        intro v' w7 hown' hgr' _
        have hit5 : w7.heap[w.heap.size + 1 + 1]? = some (.stringIter t (p' + (Utf8.decode t p').2)) := by
          rw [hgr'.block _ (by have := (Array.getElem?_eq_some_iff.1 hit2).1; simp; omega) (fun e => iter_not_row hown2 hit2 e.symm)]
          exact iter_alloc hit2 _
        have hbel5 : Below (w.heap.size + 1 + 1) W0 w7 := (hbel2.alloc hbr2 _).grown hgr' (by simp; omega) (fun b hb => World.ownsRow.ownBlock_le hown2 b hb)
        have hown5 : w7.ownsRow (w.heap.size + 1 + 1) 21 1 v' (acc ++ [(Utf8.decode t p').1]).length (runes (acc ++ [(Utf8.decode t p').1])) := by
          have e1 : (acc ++ [(Utf8.decode t p').1]).length = acc.length + 1 := by simp
          have e2 : runes (acc ++ [(Utf8.decode t p').1]) = runes acc ++ [.int .i32 ((Utf8.decode t p').1 : Int)] := by unfold runes; rw [List.map_append]; rfl
          rw [e1, e2]; exact hown'
        have hlen5 : (acc ++ [(Utf8.decode t p').1]).length ≤ p' + (Utf8.decode t p').2 := by simp; omega
        clear hown2 hown' hgr' hbel2 hit2
        go_wp2_with fail
        go_roundw
        case rel => exact ⟨p' + (Utf8.decode t p').2, acc ++ [(Utf8.decode t p').1], hb1', hlen5, hit5, hown5, hbel5, HS2⟩
        case measure =>
          simp only [World.iterPos, hit5, hit]
          omega
    · have hnx : ∀ ty, (Instr.next (.pointer (some ⟨w.heap.size + 1 + 1, 0, none⟩)) true ty).run Tryd.prog wr = _ := fun ty => Lib.run_next_end_at wr (w.heap.size + 1 + 1) t p' ty hit hlt
      obtain rfl : p' = t.size := by omega
      have hpp : Hid (p = t.size) := by rw [← HS.out.2]; exact stop_end t
      have hsc : Hid (scalars t 0 = acc) := by have := HS.out.1; rw [scalars_end, List.append_nil] at this; exact this.symm
      have hbf : bytesFrom t t.size = [] := bytesFrom_end t _ (by omega)
      obtain ⟨r0, r1, r2, r3, f0, f1, f2, f3⟩ := hF0.out.2.2.kept hW0.out hbel
      have hY : Hid (∀ W', Below (w.heap.size + 1) W0 W' → W'.ownsRow (w.heap.size + 1 + 1) 21 1 u8 acc.length (runes acc) → FeedPost t p w (.returned (.tuple #[.agg #[.int .u8 0, .int .u8 0, .int .u8 0, .int .i64 0], u8, .int .i64 0])) W') := fun W' hb ho => by
        refine .inl ⟨.inl hpp.out, u8, by rw [hpp.out, hbf]; rfl, ?_, (hF0.out.2.1).trans (hb.mono (by omega))⟩
        rw [hsc.out]; exact row_base ho (by omega)
      have hY2 : Hid (∀ a b c d, FeedPost t p w (.returned (.tuple #[.agg #[.int .u8 0, .int .u8 0, .int .u8 0, .int .i64 0], u8, .int .i64 0])) ((((wr.setCell ⟨w.heap.size + 1, 0, none⟩ a).setCell ⟨w.heap.size + 1, 1, none⟩ b).setCell ⟨w.heap.size + 1, 2, none⟩ c).setCell ⟨w.heap.size + 1, 3, none⟩ d)) := fun a b c d => hY.out _ ((hbel.mono (Nat.le_succ _)).trans (below_set4 wr (w.heap.size + 1) a b c d)) (row_set4 hown (Nat.lt_succ_self _) a b c d)
      clear hY hsc hpp hbf HS hown hbel
      go_wp2_with fail
      refine bodyPost_ret (v := .tuple #[.agg #[.int .u8 0, .int .u8 0, .int .u8 0, .int .i64 0], u8, .int .i64 0]) (by simp [results, Tryd.results5, go_sem, r0, r1, r2, r3]) rfl ?_
      exact hY2.out _ _ _ _
end Go.Proofs.YtpebgggdpgppdaaDoor
