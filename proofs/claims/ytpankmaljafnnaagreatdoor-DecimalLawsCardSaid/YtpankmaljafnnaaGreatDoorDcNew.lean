/-
  Helper: the walk of decimal.newNumber.
-/
import Derived.Test.YtpankmaljafnnaaGreatDoorDcCut
import Derived.Laws.IdiomCopy
namespace Go.Proofs.YtpankmaljafnnaaGreatDoor
open Go.RowKit
set_option linter.unusedVariables false
set_option linter.unusedSimpArgs false

/-- 'copy(row[off:], t)' of a string into the call's own row -/
theorem copy_strR {w : World} {ops : Array Oper} {rest : List Oper} {o : Oper} {a : Act} {Q : Exit → Act → World → Prop} (hgd : o.guard = none) (d s : Operand) (dT sT : TypeId)
    (ho : o.op = .call { callee := .builtin .copy, args := #[d, s], argTypes := #[dT, sT] }) (hu : Tryz.prog.underlying dT = some (.slice 5))
    (dp : Option Addr) (dLen dCap : Nat) (t : ByteArray) (hd : a.eval d = .slice dp dLen dCap) (hs : a.eval s = .string t)
    (g off : Nat) (R : List UInt8) (hg : Hid (Row w g 5 R)) (c : Nat) (hc : c = Nat.min t.size dLen) (hpos : 0 < c → dp = some ⟨g, off, none⟩) (hfit : off + c ≤ R.length)
    (B : Nat) (w0 : World) (hb : Below B w0 w) (hBg : B ≤ g)
    (h : ∀ w', Hid (Row w' g 5 (R.take off ++ (t.data.toList.take c ++ R.drop (off + c)))) → Below B w0 w' → wpList Tryz.prog ops Q rest (a.put o.dst (goInt c)) w') :
    wpList Tryz.prog ops Q (o :: rest) a w := by
  refine wpList_plain hgd fun K hK => ?_
  have hct : c ≤ t.size := by rw [hc]; exact Nat.min_le_left _ _
  have hl : (bytes (t.data.toList.take c)).length = c := by rw [bytes_len, List.length_take, ← Lib.size_eq]; omega
  have e : List.take c (t.data.toList.map fun x => Value.int .u8 (x.toNat : Int)) = bytes (t.data.toList.take c) := by unfold bytes; rw [List.map_take]
  have hrow : (w.heap[g]? = some (.cells (bytes R).toArray 5 (0, 0))) := hg.out
  by_cases h0 : c = 0
  · have hrun : (Builtin.copy_ #[dT, sT] o.type #[.slice dp dLen dCap, .string t]).run Tryz.prog w = .ok (goInt c) w := by
      cases dp <;> simp [Builtin.copy_, run_underlying hu, Builtin.lenOf, Builtin.firstCells, ← hc, h0, storeCells]
    have hw : Hid (Row w g 5 (R.take off ++ (t.data.toList.take c ++ R.drop (off + c)))) := by
      show Row _ _ _ _
      rw [h0]
      simpa using hg.out
    unfold Oper.wp
    simp [execOp, ho, resolve, invoke, builtin, hd, hs, hrun, Result.andThen]
    exact hK _ _ (h _ hw hb)
  · have hdp := hpos (by omega)
    subst hdp
    have hst := run_storeCells_at Tryz.prog g off 5 (bytes (t.data.toList.take c)) 0 (bytes R).toArray w hrow (by rw [hl]; simpa [bytes_len] using hfit) (cells_one _)
    obtain ⟨C, hC, hC2⟩ : ∃ C : List Value, ((bytes R).toArray.toList.take (off + 0) ++ bytes (t.data.toList.take c) ++ (bytes R).toArray.toList.drop (off + 0 + (bytes (t.data.toList.take c)).length)) = C ∧ C = bytes (R.take off ++ (t.data.toList.take c ++ R.drop (off + c))) := by
      refine ⟨_, rfl, ?_⟩
      rw [hl]
      simp [bytes]
    rw [hC] at hst
    have hrun : (Builtin.copy_ #[dT, sT] o.type #[.slice (some ⟨g, off, none⟩) dLen dCap, .string t]).run Tryz.prog w = .ok (goInt c) (w.setRow g C.toArray) := by
      simp [Builtin.copy_, run_underlying hu, Builtin.lenOf, Builtin.firstCells, ← hc]
      rw [e, hst]
      rfl
    have hw : Hid (Row (w.setRow g C.toArray) g 5 (R.take off ++ (t.data.toList.take c ++ R.drop (off + c)))) := by
      show Row _ _ _ _
      unfold Row
      rw [setRow_heap _ _ _ _ _ _ hrow, hC2]
    have hbw := below_row hb hBg C.toArray
    generalize w.setRow g C.toArray = W2 at *
    unfold Oper.wp
    simp [execOp, ho, resolve, invoke, builtin, hd, hs, hrun, Result.andThen]
    exact hK _ _ (h _ hw hbw)
/-- a slice of strings that reads as a list -/
def Ss (w : World) (b : Nat) (ts : List ByteArray) : Prop := ∀ i t, ts[i]? = some t → w.cell? ⟨b, i, none⟩ = some (.string t)
def cat (ts : List ByteArray) : List UInt8 := (ts.map (·.data.toList)).flatten
theorem cat_snoc (ts : List ByteArray) (k : Nat) (t : ByteArray) (h : ts[k]? = some t) : cat (ts.take (k + 1)) = cat (ts.take k) ++ t.data.toList := by
  unfold cat
  rw [List.take_add_one, h]
  simp
theorem cat_le (ts : List ByteArray) (k : Nat) : (cat (ts.take k)).length ≤ (cat ts).length := by
  have : cat ts = cat (ts.take k) ++ cat (ts.drop k) := by
    unfold cat; rw [← List.flatten_append, ← List.map_append, List.take_append_drop]
  rw [this, List.length_append]; omega
def NumR (b : Bool) (l : List UInt8) (e : Int) (w : World) (en : Ending) (w' : World) : Prop := ∃ a c, en = .returned (.agg (nvl b a l.length c e).toArray) ∧ l.length ≤ c ∧ Rb w' a l ∧ Below w.heap.size w w'
theorem fin_new (tmps : Array Value) (W : World) (N : Nat) (b : Bool) (a : Option Addr) (n c : Nat) (e : Int) (hp : tmps.getD 6 undef = .pointer (some ⟨N, 0, none⟩)) (h : Blk W N 61 (nvl b a n c e)) :
    (results Tryz.f53 tmps).run Tryz.prog W = .ok (.agg (nvl b a n c e).toArray) W :=
  results_row (p := 6) (ty := 61) rfl tmps W N _ hp (load_num h)
theorem nlen (ts : List ByteArray) (k : Nat) (h : k < ts.length) : ∃ t, ts[k]? = some t := ⟨ts[k], List.getElem?_eq_getElem h⟩
set_option maxRecDepth 100000 in
set_option maxHeartbeats 8000000 in
theorem new_any (b : Bool) (e : Int) (ts : List ByteArray) (g cap : Nat) (w : World) (hg : g < w.heap.size) (hcap : ts.length ≤ cap) (hlen : ts.length ≤ 100) (hS : Ss w g ts) (hsz : (cat ts).length ≤ 1000000) :
    Calls Tryz.prog 53 #[.bool b, .int .i64 e, .slice (some ⟨g, 0, none⟩) ts.length cap] w (NumR b (cat ts) e w) := by
  obtain ⟨wb, hwb⟩ : ∃ wb, w.alloc (.cells (nvl false none 0 0 0).toArray 61) = wb := ⟨_, rfl⟩
  obtain ⟨N, hN⟩ : ∃ N, w.heap.size = N := ⟨_, rfl⟩
  have hB : Hid (Blk wb N 61 (nvl false none 0 0 0)) := by rw [← hwb, ← hN]; exact Blk.new w _ _
  have hb : Hid (Below N w wb) := by rw [← hwb, ← hN]; exact (Below.refl _ w).alloc (Nat.le_refl _) _
  have hs1 : wb.heap.size = N + 1 := by rw [← hwb, ← hN]; simp
  have hHS : Hid (∀ W, Below (N + 1) wb W → Ss W g ts) := fun W hW i t h => by
    rw [hW.cell (by show g < N + 1; omega), hb.out.cell (by show g < N; omega)]
    exact hS i t h
  have HF : Hid (∀ W a c, (cat ts).length ≤ c → Rb W a (cat ts) → Below N w W → NumR b (cat ts) e w (.returned (.agg (nvl b a (cat ts).length c e).toArray)) W) := fun W a c h1 h2 h3 => ⟨a, c, rfl, h1, h2, by rw [hN]; exact h3⟩
  have hcl := Lib.hid (cat_le ts)
  have hcs := Lib.hid (cat_snoc ts)
  have hnl := Lib.hid (nlen ts)
  have hct : Hid ((cat (ts.take ts.length)) = cat ts) := by show _ = _; rw [List.take_length]
  have hc0 : Hid (cat (ts.take 0) = []) := rfl
  have hz := zero_num
  clear hS hg
  generalize NumR b (cat ts) e w = Po at *
  generalize hL : cat ts = L at *
  clear hL
  generalize hn : ts.length = n at *
  clear hn
  go_enter Tryz.func53, Tryz.ntmps53
  go_wp2
  go_loop [16, 7] (fun i z => ∃ k : Nat, k ≤ n ∧ i = .int .i64 k ∧ z = .int .i64 ((cat (ts.take k)).length : Nat)) (fun i _ => n - (intOf i).toNat)
  case atStart => exact ⟨0, Nat.zero_le _, rfl, by rw [hc0.out]; rfl⟩
  case round =>
    obtain ⟨k, hk, rfl, rfl⟩ := hrel
    by_cases hlt : k < n
    · obtain ⟨t, ht⟩ := hnl.out k hlt
      have c1 := hHS.out wb (Below.refl _ _) k t ht
      have hst := hcs.out k t ht
      have hlt2 : ((cat (ts.take k)).length : Int) + (t.size : Int) = ((cat (ts.take (k + 1))).length : Int) := by
        rw [hst, List.length_append, ← Lib.size_eq]; omega
      have hle := hcl.out (k + 1)
      have hle0 := hcl.out k
      generalize (cat (ts.take k)).length = m at *
      generalize hm1 : (cat (ts.take (k + 1))).length = m1 at *
      have hm1h := Lib.hid hm1
      clear hm1 hst ht
      go_wp2
      go_round
      case rel => exact ⟨k + 1, by omega, by go_num, by rw [hm1h.out, ← hlt2]⟩
      case measure => simp [intOf]; omega
    · obtain rfl : k = n := by omega
      rw [hct.out]
      generalize hll : L.length = ll at *
      have hllh := Lib.hid hll
      clear hll
      go_wp2_with (at_make; refine make_bytes _ rfl _ _ 59 rfl Tryz.underlying59 _ _ ll rfl rfl ?c1 ?c2 ?c3 ?_)
      case c1 => rfl
      case c2 => rfl
      case c3 => omega
      intro w1 hrow hb1
      try simp only [hs1] at hrow hb1 ⊢
      go_wp2
      go_loopw [29, 11] (fun i z wr => ∃ (j : Nat) (R : List UInt8), j ≤ k ∧ i = .int .i64 j ∧ z = .int .i64 ((cat (ts.take j)).length : Nat) ∧ Hid (R = cat (ts.take j) ++ List.replicate (ll - (cat (ts.take j)).length) 0) ∧ Hid (Row wr (N + 1) 5 R) ∧ Hid (Below (N + 1) wb wr)) (fun i _ _ => k - (intOf i).toNat)
      case atStart => exact ⟨0, _, Nat.zero_le _, rfl, by rw [hc0.out]; rfl, by show _ = _; rw [hc0.out]; rfl, hrow, hb1⟩
      case round =>
        clear hrow hb1
        obtain ⟨j, R, hj, rfl, rfl, hR, hrow, hbel⟩ := hrel
        by_cases hjk : j < k
        · obtain ⟨t, ht⟩ := hnl.out j hjk
          have c1 := hHS.out wr hbel.out j t ht
          have hst := hcs.out j t ht
          have hle := hcl.out (j + 1)
          have hle0 := hcl.out j
          have hts : t.data.toList.length = t.size := by simp
          have hl2 : (cat (ts.take (j + 1))).length = (cat (ts.take j)).length + t.size := by rw [hst, List.length_append, hts]
          rw [hl2] at hle
          have hRl : R.length = ll := by rw [hR.out, List.length_append, List.length_replicate]; omega
          have hR2 : Hid (R.take (cat (ts.take j)).length ++ (t.data.toList.take t.size ++ R.drop ((cat (ts.take j)).length + t.size)) = cat (ts.take (j + 1)) ++ List.replicate (ll - (cat (ts.take (j + 1))).length) 0) := by
            show _ = _
            rw [hl2, hst, hR.out, List.take_left', List.take_of_length_le (Nat.le_of_eq hts), ← List.drop_drop, List.drop_left', List.drop_replicate, List.append_assoc]
            · rw [Nat.sub_sub]
            · rfl
            · rfl
          have hl2h := Lib.hid hl2
          generalize (cat (ts.take j)).length = m at *
          have p0 : (0 : Int) ≤ (m : Int) := by omega
          have p1 : (m : Int) ≤ (ll : Int) := by omega
          clear hst hl2 hts ht
          by_cases hm : m = ll
          · subst hm
            go_wp2_with (refine copy_strR rfl _ _ 59 9 rfl Tryz.underlying59 _ _ _ t rfl rfl (N + 1) m R hrow t.size ?d1 ?d2 ?d3 (N + 1) wb hbel.out (Nat.le_refl _) ?_)
            case d1 => exact (Nat.min_eq_left (by omega)).symm
            case d2 => first | (intro h; rfl) | (intro h; omega)
            case d3 => rw [hRl]; omega
            intro w2 hrow2 hb2
            have HB2 := Lib.hid hb2
            clear hb2
            go_wp2
            go_roundw
            case rel => exact ⟨j + 1, _, by omega, by go_num, by rw [hl2h.out, Int.natCast_add], hR2, hrow2, HB2⟩
            case measure => simp [intOf]; omega
          · have hm2 : ¬ ll = m := fun h => hm h.symm
            go_wp2_with (refine copy_strR rfl _ _ 59 9 rfl Tryz.underlying59 _ _ _ t rfl rfl (N + 1) m R hrow t.size ?d1 ?d2 ?d3 (N + 1) wb hbel.out (Nat.le_refl _) ?_)
            case d1 => exact (Nat.min_eq_left (by omega)).symm
            case d3 => rw [hRl]; omega
            intro w2 hrow2 hb2
            have HB2 := Lib.hid hb2
            clear hb2
            go_wp2
            go_roundw
            case rel => exact ⟨j + 1, _, by omega, by go_num, by rw [hl2h.out, Int.natCast_add], hR2, hrow2, HB2⟩
            case measure => simp [intOf]; omega
        · obtain rfl : j = k := by omega
          have hRe : Hid (R = L) := by
            show _ = _
            rw [hR.out, hct.out, hllh.out, Nat.sub_self]; simp
          have hRl : R.length = ll := by rw [hRe.out]; exact hllh.out
          have hRw : Row wr (N + 1) 5 L := by rw [← hRe.out]; exact hrow.out
          have hBN := Lib.hid (hB.out.go hbel.out (Nat.lt_succ_self N))
          have hrb : Rb (wr.setRow N (nvl b (some ⟨N + 1, 0, none⟩) ll ll e).toArray) (some ⟨N + 1, 0, none⟩) L := hRw.rb.rowFar N _ (fun ad h => by cases h; show N + 1 ≠ N; omega)
          have hfin := Lib.hid (HF.out (wr.setRow N (nvl b (some ⟨N + 1, 0, none⟩) ll ll e).toArray) (some ⟨N + 1, 0, none⟩) ll (Nat.le_refl _) hrb (below_row (hb.out.trans (hbel.out.mono (Nat.le_succ N))) (Nat.le_refl _) _))
          have hBN2 := Lib.hid (hBN.out.row (nvl b (some ⟨N + 1, 0, none⟩) ll ll e))
          clear hR hrow hbel hRe hRl hRw hrb HF hB hb hHS
          go_wp2_with (refine wpList_store_row rfl 61 (.tmp 6) (.tmp 44) rfl N _ rfl rfl 61 _ hBN.out (nvl_i b (some ⟨N + 1, 0, none⟩) ll ll e) (nvl_z _ b _ (some ⟨N + 1, 0, none⟩) _ ll _ ll _ e) (nvl_one b (some ⟨N + 1, 0, none⟩) ll ll e) ?_)
          exact bodyPost_ret (v := .agg (nvl b (some ⟨N + 1, 0, none⟩) ll ll e).toArray) (fin_new _ _ N b _ ll ll e rfl hBN2.out) rfl hfin.out
end Go.Proofs.YtpankmaljafnnaaGreatDoor
