/-
  Helper: the walks of scanner and read.
-/
import Derived.Test.YtckeefjmamggmaaDoorInGrpW
import Derived.Laws.EntriesVeiled
import Derived.Deep.DeepCutAuto
namespace Go.Proofs.YtckeefjmamggmaaDoor
open Go.RowKit
set_option linter.unusedVariables false

def fT (N : Nat) : Value := .func (.func 52) #[] #[.pointer (some ⟨N + 3, 0, none⟩), .pointer (some ⟨N + 2, 0, none⟩)]
def fD (N : Nat) : Value := .func (.func 54) #[] #[.pointer (some ⟨N + 3, 0, none⟩), .pointer (some ⟨N + 2, 0, none⟩)]
def fE (N : Nat) : Value := .func (.func 55) #[] #[.pointer (some ⟨N + 3, 0, none⟩), .pointer (some ⟨N + 2, 0, none⟩)]
set_option maxHeartbeats 1000000 in
theorem scanner_any (s : ByteArray) (N : Nat) (w : World) (hN : w.heap.size = N + 2) : Calls Tryd.prog 41 #[.string s] w fun e w' => e = .returned (.tuple #[fT N, fD N, fE N]) ∧ w' = (w.alloc (.cells #[.string s] 9)).alloc (.cells #[.int .i64 0] 3) := by
  go_enter Tryd.func41, Tryd.ntmps41
  go_wp2
  go_ret3
  exact ⟨rfl, rfl⟩
/-- take, whatever stands there -/
theorem take_no (m s : ByteArray) (ba bs p : Nat) (w : World) (hs : s.size ≤ 1000000) (hp : p ≤ s.size) (hm : ¬ (p < s.size ∧ s.data.toList.getD p 0 ∈ m.data.toList)) (hb : Blk w bs 9 [.string s]) (ha : Blk w ba 3 [.int .i64 p]) :
    Calls Tryd.prog 52 #[.string m, .pointer (some ⟨ba, 0, none⟩), .pointer (some ⟨bs, 0, none⟩)] w fun e w' => e = .returned (.int .u8 0) ∧ w = w' := by
  by_cases h : p < s.size
  · exact take_miss m s ba bs p w hs h (fun g => hm ⟨h, by rw [ba_getD s p h]; exact g⟩) hb ha
  · obtain rfl : p = s.size := by omega
    exact take_end m s ba bs w hs hb ha
theorem take_yes (m s : ByteArray) (ba bs p : Nat) (w : World) (hs : s.size ≤ 1000000) (hm : p < s.size ∧ s.data.toList.getD p 0 ∈ m.data.toList) (hb : Blk w bs 9 [.string s]) (ha : Blk w ba 3 [.int .i64 p]) (hne : bs ≠ ba) :
    Calls Tryd.prog 52 #[.string m, .pointer (some ⟨ba, 0, none⟩), .pointer (some ⟨bs, 0, none⟩)] w fun e w' => e = .returned (.int .u8 (s.data.toList.getD p 0).toNat) ∧ Only ba w w' ∧ Blk w' ba 3 [.int .i64 (p + 1 : Nat)] := by
  have := take_hit m s ba bs p w hs hm.1 (by rw [← ba_getD s p hm.1]; exact hm.2) hb ha hne
  rw [ba_getD s p hm.1]
  exact this
/-- what a text holds -/
abbrev Rd := Bool × Nat × List Nat × Nat × Nat
def z8 : List Nat := List.replicate 8 0
def bad5 : Rd := (false, 0, z8, 0, 0)
def rdZ (l : List UInt8) (sh : Nat) (f : List Nat) (na p : Nat) : Rd :=
  if p < l.length ∧ l.getD p 0 ∈ [90, 43, 45] then
    if l.getD p 0 = 90 then (decide (p + 1 = l.length), sh, f, na, (l.getD p 0).toNat)
    else if (grpF l 58 6 2 6 (p + 1) f).1 = true then (decide ((grpF l 58 6 2 6 (p + 1) f).2.1 = l.length), sh, (grpF l 58 6 2 6 (p + 1) f).2.2, na, (l.getD p 0).toNat)
    else bad5
  else (decide (p = l.length), sh, f, na, 0)
def rdF (l : List UInt8) (sh : Nat) (f : List Nat) (p : Nat) : Rd :=
  if p < l.length ∧ l.getD p 0 ∈ [46] then
    if rn l (p + 1) 9 = 0 then bad5
    else rdZ l sh f (numv ((l.drop (p + 1)).take (rn l (p + 1) 9) ++ List.replicate (9 - rn l (p + 1) 9) 48)) (p + 1 + rn l (p + 1) 9)
  else rdZ l sh f 0 p
def rdT (l : List UInt8) (sh : Nat) (f : List Nat) (p : Nat) : Rd :=
  if (grpF l 58 3 3 3 p f).1 = true then rdF l (sh + 2) (grpF l 58 3 3 3 p f).2.2 (grpF l 58 3 3 3 p f).2.1 else bad5
def rdD (l : List UInt8) : Rd :=
  if (grpF l 45 0 3 0 0 z8).1 = true then
    if (grpF l 45 0 3 0 0 z8).2.1 < l.length ∧ l.getD (grpF l 45 0 3 0 0 z8).2.1 0 ∈ [84, 32] then rdT l 1 (grpF l 45 0 3 0 0 z8).2.2 ((grpF l 45 0 3 0 0 z8).2.1 + 1)
    else (decide ((grpF l 45 0 3 0 0 z8).2.1 = l.length), 1, (grpF l 45 0 3 0 0 z8).2.2, 0, 0)
  else bad5
def rd (l : List UInt8) : Rd := if 3 ≤ l.length ∧ l.getD 2 0 = 58 then rdT l 0 z8 0 else rdD l
def ReadP (r : Rd) (w : World) (e : Ending) (w' : World) : Prop := e = .returned (.tuple #[.agg (tx r.2.1 r.2.2.1 r.2.2.2.1 r.2.2.2.2).toArray, .bool r.1]) ∧ Below w.heap.size w w'
theorem size_tx : (Tryd.prog.info? 43).map (·.size) = some 11 := by kernel_rfl
theorem tx_len (sh : Nat) (f : List Nat) (na zo : Nat) (hf : f.length = 8) : (tx sh f na zo).length = 11 := by unfold tx; simp [hf]
theorem tx_all (sh : Nat) (f : List Nat) (na zo : Nat) : (tx sh f na zo).toArray.all (·.oneCell') = true := by
  rw [Array.all_eq_true_iff_forall_mem]
  intro v hv
  have hv : v ∈ tx sh f na zo := by simpa using hv
  unfold tx at hv
  rcases List.mem_cons.1 hv with rfl | hv
  · rfl
  · rcases List.mem_append.1 hv with hv | hv
    · obtain ⟨n, _, rfl⟩ := List.mem_map.1 hv
      rfl
    · simp only [List.mem_cons, List.not_mem_nil, or_false] at hv
      rcases hv with rfl | rfl <;> rfl
theorem results_row_tmp {fn : Func} {p t : Tmp} {ty : TypeId} (h : fn.results = #[.cell p ty, .tmp t]) (tmps : Array Value) (w : World) (g : Nat) (cs : Array Value)
    (hp : tmps.getD p undef = .pointer (some ⟨g, 0, none⟩)) (hl : (loadVar ty ⟨g, 0, none⟩).run Tryd.prog w = .ok (.agg cs) w) :
    (results fn tmps).run Tryd.prog w = .ok (.tuple #[.agg cs, tmps.getD t undef]) w := by
  have hp' : tmps[p]?.getD undef = .pointer (some ⟨g, 0, none⟩) := by simpa using hp
  simp [results, h, hp', asAddr, hl]
theorem below_row {B g : Nat} {a w : World} (h : Below B a w) (hg : B ≤ g) (cs : Array Value) : Below B a (w.setRow g cs) :=
  ⟨h.os, h.tape, h.output, by rw [size_setRow]; exact h.size, fun k hk => by
    rw [← h.block k hk]
    unfold World.setRow
    simp only [Array.getElem?_modify]
    rw [if_neg (by omega)]⟩
theorem load_tx {w : World} {g : Nat} {X : List Value} (h : Blk w g 43 X) (hx : X.length = 11) : (loadVar 43 ⟨g, 0, none⟩).run Tryd.prog w = .ok (.agg X.toArray) w :=
  run_loadVar_row w g 43 43 X.toArray (0, 0) _ h Tryd.underlying43 rfl (by rw [size_tx]; simp [hx])
theorem store_tx {w : World} {g : Nat} {X Y : List Value} (h : Blk w g 43 X) (hx : X.length = 11) (hy : Y.length = 11) (ha : Y.toArray.all (·.oneCell') = true) : (storeVar 43 ⟨g, 0, none⟩ (.agg Y.toArray)).run Tryd.prog w = .ok () (w.setRow g Y.toArray) :=
  run_storeVar_row w g 43 43 X.toArray Y.toArray h (by rw [size_tx]; simp [hy]) (by simp [hx, hy]) ha
theorem row_tx {w : World} {g : Nat} {X Y : List Value} (h : Blk w g 43 X) : Blk (w.setRow g Y.toArray) g 43 Y := setRow_heap _ _ _ _ _ _ h
theorem fin_tx (tmps : Array Value) (W : World) (N : Nat) (Y : List Value) (b : Value) (hp : tmps.getD 2 undef = .pointer (some ⟨N, 0, none⟩)) (hb : tmps.getD 3 undef = b) (h : Blk W N 43 Y) (hy : Y.length = 11) :
    (results Tryd.f29 tmps).run Tryd.prog W = .ok (.tuple #[.agg Y.toArray, b]) W := by
  rw [results_row_tmp (p := 2) (t := 3) (ty := 43) rfl tmps W N Y.toArray hp (load_tx h hy), hb]
theorem list8 (f : List Nat) (h : f.length = 8) : ∃ a0 a1 a2 a3 a4 a5 a6 a7, f = [a0, a1, a2, a3, a4, a5, a6, a7] := by
  match f, h with
  | [a0, a1, a2, a3, a4, a5, a6, a7], _ => exact ⟨a0, a1, a2, a3, a4, a5, a6, a7, rfl⟩
theorem setc0 {w : World} {N t : Nat} {X : List Value} (h : Blk w N t X) (i : Nat) (v : Value) : w.setCell ⟨N, i, none⟩ v = w.setRow N (X.set i v).toArray := by
  rw [setCell_eq_setRow w N i X.toArray t (0, 0) v h]
  congr 1
  simp
theorem setc {w : World} {N t : Nat} {X : List Value} (h : Blk w N t X) (Y : List Value) (i : Nat) (v : Value) : (w.setRow N Y.toArray).setCell ⟨N, i, none⟩ v = w.setRow N (Y.set i v).toArray := by
  rw [setc0 (show Blk (w.setRow N Y.toArray) N t Y from setRow_heap _ _ _ _ _ _ h) i v, setRow_setRow]
theorem set11 {w : World} {N t : Nat} {X : List Value} (h : Blk w N t X) (hx : X.length = 11) (v0 v1 v2 v3 v4 v5 v6 v7 v8 v9 v10 : Value) :
    (((((((((((w.setCell ⟨N, 0, none⟩ v0).setCell ⟨N, 1, none⟩ v1).setCell ⟨N, 2, none⟩ v2).setCell ⟨N, 3, none⟩ v3).setCell ⟨N, 4, none⟩ v4).setCell ⟨N, 5, none⟩ v5).setCell ⟨N, 6, none⟩ v6).setCell ⟨N, 7, none⟩ v7).setCell ⟨N, 8, none⟩ v8).setCell ⟨N, 9, none⟩ v9).setCell ⟨N, 10, none⟩ v10) = w.setRow N #[v0, v1, v2, v3, v4, v5, v6, v7, v8, v9, v10] := by
  rw [setc0 h 0 v0, setc h, setc h, setc h, setc h, setc h, setc h, setc h, setc h, setc h, setc h]
  match X, hx with
  | [x0, x1, x2, x3, x4, x5, x6, x7, x8, x9, x10], _ => rfl
theorem alloc_new' (W : World) (o : Obj) (n : Nat) (h : n = W.heap.size) : (W.alloc o).heap[n]? = some o := by subst h; exact heap_alloc_new W o
theorem app_rep (d : ByteArray) (k : Nat) : (d ++ ⟨(List.replicate k 48).toArray⟩ : ByteArray).data.toList = d.data.toList ++ List.replicate k 48 := by simp
theorem rep_size (k : Nat) : (⟨(List.replicate k 48).toArray⟩ : ByteArray).size = k := by simp [ByteArray.size]
theorem app_rep_size (d : ByteArray) (k : Nat) : (d ++ ⟨(List.replicate k 48).toArray⟩ : ByteArray).size = d.size + k := by rw [ByteArray.size_append, rep_size]
theorem St.below {w w' : World} {N : Nat} {s : ByteArray} {p : Nat} {X : List Value} (h : St w N s p X) (hb : Below w.heap.size w w') : St w' N s p X :=
  ⟨h.1.go hb h.1.lt, h.2.1.go hb h.2.1.lt, h.2.2.1.go hb h.2.2.1.lt, h.2.2.2.1.go hb h.2.2.2.1.lt, h.2.2.2.2.1.go hb h.2.2.2.2.1.lt, h.2.2.2.2.2.go hb h.2.2.2.2.2.lt⟩
theorem rep_l (c : Nat) : Lib.repeatL (⟨#[48]⟩ : ByteArray).data.toList c = List.replicate c 48 := by
  induction c with
  | zero => rfl
  | succ c ih => rw [List.replicate_succ, ← ih]; rfl
theorem repeat_zero (c : Nat) (w : World) (hc : c ≤ 20) : Calls Tryd.prog 45 #[.string ⟨#[48]⟩, .int .i64 (c : Int)] w fun e w' => e = .returned (.string ⟨(List.replicate c 48).toArray⟩) ∧ Below w.heap.size w w' := by
  by_cases h0 : c = 0
  · subst h0
    exact (Tryd.strings_Repeat_zero ⟨#[48]⟩ w).mono fun e w' ⟨h1, h2⟩ => ⟨h1, by rw [h2]; exact Below.refl _ _⟩
  · by_cases h1 : c = 1
    · subst h1
      exact (Tryd.strings_Repeat_one ⟨#[48]⟩ w).mono fun e w' ⟨h1, h2⟩ => ⟨h1, by rw [h2]; exact Below.refl _ _⟩
    · refine (Tryd.strings_Repeat_main ⟨#[48]⟩ c w (by omega) (by omega) (by show 1 * c ≤ _; omega) (by decide)).mono fun e w' ⟨h1, h2⟩ => ⟨?_, h2⟩
      rw [h1]
      congr 4
      exact rep_l c
def z11 : Array Value := #[.int .i64 0, .int .i64 0, .int .i64 0, .int .i64 0, .int .i64 0, .int .i64 0, .int .i64 0, .int .i64 0, .int .i64 0, .int .i64 0, .int .u8 0]
theorem start_st (s : ByteArray) (N : Nat) (w : World) (hN : N = w.heap.size) :
    St ((((((w.alloc (.cells z11 43)).alloc (.cells z11 43)).alloc (.cells #[.string s] 9)).alloc (.cells #[.int .i64 0] 3)).alloc (.cells #[fT N] 63)).alloc (.cells #[fD N] 64)) N s 0 (tx 0 z8 0 0) ∧
    Below N w ((((((w.alloc (.cells z11 43)).alloc (.cells z11 43)).alloc (.cells #[.string s] 9)).alloc (.cells #[.int .i64 0] 3)).alloc (.cells #[fT N] 63)).alloc (.cells #[fD N] 64)) ∧
    ((((((w.alloc (.cells z11 43)).alloc (.cells z11 43)).alloc (.cells #[.string s] 9)).alloc (.cells #[.int .i64 0] 3)).alloc (.cells #[fT N] 63)).alloc (.cells #[fD N] 64)).heap.size = N + 6 := by
  subst hN
  refine ⟨⟨?_, ?_, ?_, ?_, ?_, ?_⟩, ?_, by simp⟩
  · show _ = _
    iterate 4 rw [Below.heap_alloc _ _ _ (by simp <;> omega)]
    exact alloc_new' _ _ _ (by simp)
  · show _ = _
    iterate 3 rw [Below.heap_alloc _ _ _ (by simp <;> omega)]
    exact alloc_new' _ _ _ (by simp)
  · show _ = _
    iterate 2 rw [Below.heap_alloc _ _ _ (by simp <;> omega)]
    exact alloc_new' _ _ _ (by simp)
  · show _ = _
    iterate 1 rw [Below.heap_alloc _ _ _ (by simp <;> omega)]
    exact alloc_new' _ _ _ (by simp)
  · show _ = _
    exact alloc_new' _ _ _ (by simp)
  · show _ = _
    iterate 5 rw [Below.heap_alloc _ _ _ (by simp <;> omega)]
    exact alloc_new' _ _ _ (by simp)
  · exact (((((((Below.refl _ w).alloc (Nat.le_refl _) _).alloc (by simp) _).alloc (by simp; omega) _).alloc (by simp; omega) _).alloc (by simp; omega) _).alloc (by simp; omega) _)
set_option maxRecDepth 100000 in
set_option maxHeartbeats 8000000 in
theorem read_D (s : ByteArray) (w : World) (hs : s.size ≤ 1000000) (hD : ¬ (3 ≤ s.data.toList.length ∧ s.data.toList.getD 2 0 = 58)) (R : Rd) (hR : R = rdD s.data.toList) : Calls Tryd.prog 29 #[.string s] w (ReadP R w) := by
  have hlen : s.data.toList.length = s.size := by simp
  obtain ⟨N, hN⟩ : ∃ N, N = w.heap.size := ⟨_, rfl⟩
  have HS := Lib.hid (fun W h => scanner_any s N W h)
  have HF : Hid (∀ e w', e = .returned (.tuple #[.agg (tx R.2.1 R.2.2.1 R.2.2.2.1 R.2.2.2.2).toArray, .bool R.1]) → Below N w w' → ReadP R w e w') := fun e w' h1 h2 => ⟨h1, by rw [← hN]; exact h2⟩
  have hNh := Lib.hid hN
  generalize hPo : ReadP R w = Po at *
  clear hPo
  have W6 : Hid (∀ W, W = (((((w.alloc (.cells z11 43)).alloc (.cells z11 43)).alloc (.cells #[.string s] 9)).alloc (.cells #[.int .i64 0] 3)).alloc (.cells #[fT N] 63)).alloc (.cells #[fD N] 64) → St W N s 0 (tx 0 z8 0 0) ∧ Below N w W ∧ W.heap.size = N + 6) := fun W hW => by
    subst hW
    exact start_st s N w hN
  clear hN
  go_enter Tryd.func29, Tryd.ntmps29
  go_wp2_with fail
  refine (HS.out _ (by simp; have := hNh.out; omega)).mono ?_
  rintro e w1 ⟨rfl, rfl⟩
  unfold fT fD fE
  go_upto_region 4 with fail
  obtain ⟨S0, hb0, hz0⟩ := W6.out _ rfl
  have e5 : w.heap.size + 1 + 1 + 1 + 1 + 1 = N + 5 := by have := hNh.out; omega
  have e4 : w.heap.size + 1 + 1 + 1 + 1 = N + 4 := by have := hNh.out; omega
  have e1 : w.heap.size + 1 = N + 1 := by have := hNh.out; omega
  have e0 : w.heap.size = N := hNh.out.symm
  rw [e5, e4, e1, e0]
  clear e5 e4 e1 e0
  generalize hWW : (((((w.alloc (.cells z11 43)).alloc (.cells z11 43)).alloc (.cells #[.string s] 9)).alloc (.cells #[.int .i64 0] 3)).alloc (.cells #[fT N] 63)).alloc (.cells #[fD N] 64) = W at *
  unfold z11 fT fD at hWW
  rw [hWW]
  clear hWW W6
  have S0h := Lib.hid S0
  have hb0h := Lib.hid hb0
  clear S0 hb0
  go_cut [24] (fun b wx => b = .bool true ∧ wx = W)
  case first =>
    by_cases h3 : s.size < 3
    · have h3i : (s.size : Int) < 3 := by omega
      go_wp2_with fail
      go_meet
      exact ⟨rfl, rfl⟩
    · have h3i : (3 : Int) ≤ (s.size : Int) := by omega
      have h2 : 2 < s.size := by omega
      have h2i : (2 : Int) < (s.size : Int) := by omega
      have hne : (((s[2]).toNat : Int) != 58) = true := by
        rw [bne_iff_ne]
        intro g
        refine hD ⟨by omega, ?_⟩
        rw [ba_getD s 2 h2]
        exact UInt8.toNat_inj.1 (by have : (58 : UInt8).toNat = 58 := rfl; omega)
      clear h3
      go_wp2_with fail
      go_meet
      exact ⟨rfl, rfl⟩
  case rest =>
    obtain ⟨rfl, rfl⟩ := hcut
    have HG : Hid (Calls Tryd.prog 42 #[.int .i64 0, .int .i64 2, .string ⟨#[45]⟩, .pointer (some ⟨N + 4, 0, none⟩), .pointer (some ⟨N + 5, 0, none⟩), .pointer (some ⟨N + 1, 0, none⟩)] wc (GrpP N s 0 0 0 (grpF s.data.toList 45 0 3 0 0 z8) wc)) := group_any s 45 N 0 3 0 0 0 0 z8 wc hs (by omega) (by omega) rfl (by omega) (by decide) S0h.out
    unfold rdD at hR
    generalize grpF s.data.toList 45 0 3 0 0 z8 = g at *
    obtain ⟨gok, gp, gf⟩ := g
    go_wp2_with fail
    refine HG.out.mono ?_
    rintro e w1 ⟨rfl, S1, O1, hgp, hgf⟩
    have S1h := Lib.hid S1
    have O1h := Lib.hid O1
    have hgfh := Lib.hid hgf
    clear S1 O1 hgf
    cases gok with
    | false =>
      have hRe : Hid (R = bad5) := hR
      have hBz := S1h.out.2.2.2.2.2
      go_wp2_with (refine wpList_store_row rfl 43 (.tmp 2) (.tmp 28) rfl N _ rfl rfl 43 _ hBz (by kernel_rfl) (by kernel_rfl) (by kernel_rfl) ?_)
      refine bodyPost_ret (v := .tuple #[.agg (tx 0 z8 0 0).toArray, .bool false]) (fin_tx _ _ N (tx 0 z8 0 0) _ rfl rfl (row_tx (Y := tx 0 z8 0 0) hBz) rfl) rfl (HF.out _ _ (by rw [hRe.out]; rfl) (below_row (hb0h.out.trans O1h.out.1) (Nat.le_refl _) _))
    | true =>
      obtain ⟨a0, a1, a2, a3, a4, a5, a6, a7, rfl⟩ := list8 gf hgfh.out
      have cx := S1h.out.1.cell 0 _ rfl
      have fx := S1h.out.1.free 0
      have S2 : Hid (St (w1.setCell ⟨N + 1, 0, none⟩ (.int .i64 1)) N s gp (tx 1 [a0, a1, a2, a3, a4, a5, a6, a7] 0 0)) := S1h.out.put 0 (.int .i64 1)
      have O2 : Hid (Own N wc (w1.setCell ⟨N + 1, 0, none⟩ (.int .i64 1))) := O1h.out.put 0 _
      generalize hw2 : w1.setCell ⟨N + 1, 0, none⟩ (.int .i64 1) = w2 at *
      have c3 := S2.out.2.2.2.1.cell 0 _ rfl
      by_cases hT : gp < s.size ∧ s.data.toList.getD gp 0 ∈ [84, 32]
      · have HT0 := take_yes ⟨#[84, 32]⟩ s (N + 3) (N + 2) gp w2 hs hT S2.out.2.1 S2.out.2.2.1 (by omega)
        have hnz : ((s.data.toList.getD gp 0).toNat : Int) ≠ 0 := by
          have hc : s.data.toList.getD gp 0 = 84 ∨ s.data.toList.getD gp 0 = 32 := by simpa using hT.2
          rcases hc with hc | hc <;> rw [hc] <;> decide
        have hnz2 : (((s.data.toList.getD gp 0).toNat : Int) == 0) = false := by rw [beq_eq_false_iff_ne]; exact hnz
        have HT := Lib.hid HT0
        rw [if_pos rfl, if_pos (by rw [hlen]; exact hT)] at hR
        have hgs : gp + 1 ≤ s.size := by omega
        clear HT0 hnz hT
        generalize (s.data.toList.getD gp 0).toNat = tc at *
        have hR2 : R = rdT s.data.toList 1 [a0, a1, a2, a3, a4, a5, a6, a7] (gp + 1) := hR
        clear hR
        have hR := hR2
        clear hR2
        go_wp2_with fail
        refine HT.out.mono ?_
        rintro e wt ⟨rfl, hon, hat⟩
        have St0 : Hid (St wt N s (gp + 1) (tx 1 [a0, a1, a2, a3, a4, a5, a6, a7] 0 0)) := S2.out.only hon hat
        have BELt0 : Hid (Below N wc wt) := O2.out.1.trans (hon.1.mono (by omega))
        clear hon hat c3 HT
        generalize hgp1 : gp + 1 = gp1 at *
        clear hgp1
        rw [rdT] at hR
        have HG : Hid (Calls Tryd.prog 42 #[.int .i64 3, .int .i64 5, .string ⟨#[58]⟩, .pointer (some ⟨N + 4, 0, none⟩), .pointer (some ⟨N + 5, 0, none⟩), .pointer (some ⟨N + 1, 0, none⟩)] wt (GrpP N s 1 0 0 (grpF s.data.toList 58 3 3 3 gp1 [a0, a1, a2, a3, a4, a5, a6, a7]) wt)) := group_any s 58 N 3 3 gp1 1 0 0 [a0, a1, a2, a3, a4, a5, a6, a7] wt hs (by omega) (by omega) rfl (by omega) (by decide) St0.out
        generalize grpF s.data.toList 58 3 3 3 gp1 [a0, a1, a2, a3, a4, a5, a6, a7] = g at *
        obtain ⟨gok, gp, gf⟩ := g
        go_wp2_with fail
        refine HG.out.mono ?_
        rintro e wg ⟨rfl, Sg0, Og0, hgp, hgf⟩
        have Sg := Lib.hid Sg0
        have hgfh := Lib.hid hgf
        have BELg : Hid (Below N wc wg) := (BELt0.out).trans Og0.1
        clear Sg0 Og0 hgf HG
        have hgp' : gp ≤ s.size := hgp
        cases gok with
        | false =>
          have hRe : Hid (R = bad5) := hR
          have hBz := Sg.out.2.2.2.2.2
          go_wp2_with (refine wpList_store_row rfl 43 (.tmp 2) (.tmp 39) rfl N _ rfl rfl 43 _ hBz (by kernel_rfl) (by kernel_rfl) (by kernel_rfl) ?_)
          refine bodyPost_ret (v := .tuple #[.agg (tx 0 z8 0 0).toArray, .bool false]) (fin_tx _ _ N (tx 0 z8 0 0) _ rfl rfl (row_tx (Y := tx 0 z8 0 0) hBz) rfl) rfl (HF.out _ _ (by rw [hRe.out]; rfl) (below_row (hb0h.out.trans BELg.out) (Nat.le_refl _) _))
        | true =>
          obtain ⟨b0, b1, b2, b3, b4, b5, b6, b7, rfl⟩ := list8 gf hgfh.out
          rw [if_pos rfl] at hR
          have hR2 : R = rdF s.data.toList 3 [b0, b1, b2, b3, b4, b5, b6, b7] gp := hR
          clear hR
          have hR := hR2
          clear hR2
          have hor : bits .or .i64 1 2 = 3 := by decide
          have cx := Sg.out.1.cell 0 _ rfl
          have fx := Sg.out.1.free 0
          have S3 : Hid (St (wg.setCell ⟨N + 1, 0, none⟩ (.int .i64 3)) N s gp (tx 3 [b0, b1, b2, b3, b4, b5, b6, b7] 0 0)) := Sg.out.put 0 (.int .i64 3)
          have BEL3 : Hid (Below N wc (wg.setCell ⟨N + 1, 0, none⟩ (.int .i64 3))) := BELg.out.setCell (by show N ≤ N + 1; omega) _
          generalize hw3 : wg.setCell ⟨N + 1, 0, none⟩ (.int .i64 3) = w3 at *
          by_cases hF : gp < s.size ∧ s.data.toList.getD gp 0 ∈ [46]
          · have HT0 := take_yes ⟨#[46]⟩ s (N + 3) (N + 2) gp w3 hs hF S3.out.2.1 S3.out.2.2.1 (by omega)
            have hc : s.data.toList.getD gp 0 = 46 := by simpa using hF.2
            rw [hc] at HT0
            have HT := Lib.hid HT0
            clear HT0
            have ct := S3.out.2.2.2.1.cell 0 _ rfl
            rw [rdF, if_pos (by rw [hlen]; exact hF)] at hR
            have hPs : gp + 1 ≤ s.size := by omega
            clear hF hc
            go_wp2_with fail
            refine HT.out.mono ?_
            rintro e wt ⟨rfl, hon, hat⟩
            have St1 : Hid (St wt N s (gp + 1) (tx 3 [b0, b1, b2, b3, b4, b5, b6, b7] 0 0)) := S3.out.only hon hat
            have BELt1 : Hid (Below N wc wt) := (BEL3.out).trans (hon.1.mono (by omega))
            clear hon hat ct HT
            have c4 := St1.out.2.2.2.2.1.cell 0 _ rfl
            have HDg := Lib.hid (digits_any s (N + 3) (N + 2) (gp + 1) 9 wt hs hPs (by omega) St1.out.2.1 St1.out.2.2.1 (by omega))
            have hrl := rn_le s.data.toList (gp + 1) 9
            obtain ⟨hx1, hx2⟩ := ext_facts s (gp + 1) (rn s.data.toList (gp + 1) 9) (by omega)
            have hx3 := Lib.hid (ext_digs s (gp + 1) 9)
            go_wp2_with fail
            refine HDg.out.mono ?_
            rintro e wd ⟨rfl, hon, hat⟩
            have Sd : Hid (St wd N s (gp + 1 + rn s.data.toList (gp + 1) 9) (tx 3 [b0, b1, b2, b3, b4, b5, b6, b7] 0 0)) := St1.out.only hon hat
            have BELd : Hid (Below N wc wd) := BELt1.out.trans (hon.1.mono (by omega))
            clear hon hat c4 HDg
            generalize s.extract (gp + 1) (gp + 1 + rn s.data.toList (gp + 1) 9) = d at *
            have hx1h := Lib.hid hx1
            have hx2h := Lib.hid hx2
            clear hx1 hx2
            by_cases hr0 : rn s.data.toList (gp + 1) 9 = 0
            · rw [if_pos hr0] at hR
              have hdn : d.toList = [] := by
                rw [Lib.toList_data, hx2h.out, hr0]; rfl
              clear hr0
              have hRe : Hid (R = bad5) := hR
              have hBz := Sd.out.2.2.2.2.2
              go_wp2_with (refine wpList_store_row rfl 43 (.tmp 2) (.tmp 51) rfl N _ rfl rfl 43 _ hBz (by kernel_rfl) (by kernel_rfl) (by kernel_rfl) ?_)
              refine bodyPost_ret (v := .tuple #[.agg (tx 0 z8 0 0).toArray, .bool false]) (fin_tx _ _ N (tx 0 z8 0 0) _ rfl rfl (row_tx (Y := tx 0 z8 0 0) hBz) rfl) rfl (HF.out _ _ (by rw [hRe.out]; rfl) (below_row (hb0h.out.trans BELd.out) (Nat.le_refl _) _))
            · rw [if_neg hr0] at hR
              have hdn : d.toList.isEmpty = false := by
                rw [Lib.toList_data]
                cases he : d.data.toList with
                | nil =>
                  exfalso
                  have h9 : d.data.toList.length = d.size := by simp
                  rw [he] at h9
                  have h8 := hx1h.out
                  simp at h9
                  omega
                | cons x y => rfl
              have hdz : d.size ≤ 9 := by have := hx1h.out; omega
              have hdzi : (d.size : Int) ≤ 9 := by omega
              have HRp := Lib.hid (fun W => repeat_zero (9 - d.size) W (by omega))
              have hci : (9 : Int) - (d.size : Int) = ((9 - d.size : Nat) : Int) := by omega
              have HNu : Hid (∀ W, Calls Tryd.prog 44 #[.string (d ++ ⟨(List.replicate (9 - d.size) 48).toArray⟩)] W fun e w' => e = .returned (.int .i64 (numv ((s.data.toList.drop (gp + 1)).take (rn s.data.toList (gp + 1) 9) ++ List.replicate (9 - rn s.data.toList (gp + 1) 9) 48) : Nat)) ∧ W = w') := fun W => by
                have h7 : (d ++ ⟨(List.replicate (9 - d.size) 48).toArray⟩ : ByteArray).data.toList = (s.data.toList.drop (gp + 1)).take (rn s.data.toList (gp + 1) 9) ++ List.replicate (9 - rn s.data.toList (gp + 1) 9) 48 := by
                  rw [← hx2h.out, ← hx1h.out]; exact app_rep d _
                have := number_any (d ++ ⟨(List.replicate (9 - d.size) 48).toArray⟩) W (by rw [app_rep_size]; omega) (fun c hc => by
                  rw [h7] at hc
                  rcases List.mem_append.1 hc with hc | hc
                  · exact hx3.out c hc
                  · rw [List.eq_of_mem_replicate hc]; decide)
                rw [h7] at this
                exact this
              obtain ⟨rp, hrp⟩ : ∃ rp : ByteArray, rp = ⟨(List.replicate (9 - d.size) 48).toArray⟩ := ⟨_, rfl⟩
              rw [← hrp] at HRp HNu
              have hrz : rp.size ≤ 9 := by rw [hrp, rep_size]; omega
              clear hrp hr0
              generalize hnv : numv ((s.data.toList.drop (gp + 1)).take (rn s.data.toList (gp + 1) 9) ++ List.replicate (9 - rn s.data.toList (gp + 1) 9) 48) = nv at *
              clear hnv
              have hq : gp + 1 + rn s.data.toList (gp + 1) 9 ≤ s.size := by omega
              generalize gp + 1 + rn s.data.toList (gp + 1) 9 = q at *
              clear hrl hx1h hx2h hx3
              generalize hdc : 9 - d.size = dc at *
              clear hdc
              go_wp2_with fail
              refine (HRp.out _).mono ?_
              rintro e wr ⟨rfl, hbr⟩
              have Sr : Hid (St wr N s q (tx 3 [b0, b1, b2, b3, b4, b5, b6, b7] 0 0)) := Sd.out.below hbr
              have BELr : Hid (Below N wc wr) := BELd.out.trans (hbr.mono (Nat.le_of_lt Sd.out.2.2.2.2.2.lt))
              clear hbr
              go_wp2_with fail
              refine (HNu.out _).mono ?_
              rintro e w3 ⟨rfl, rfl⟩
              have cn := Sr.out.1.cell 9 _ rfl
              have fn := Sr.out.1.free 9
              have Sn : Hid (St (wr.setCell ⟨N + 1, 9, none⟩ (.int .i64 nv)) N s q (tx 3 [b0, b1, b2, b3, b4, b5, b6, b7] nv 0)) := Sr.out.put 9 (.int .i64 nv)
              have BELn : Hid (Below N wc (wr.setCell ⟨N + 1, 9, none⟩ (.int .i64 nv))) := BELr.out.setCell (by show N ≤ N + 1; omega) _
              generalize hwn : wr.setCell ⟨N + 1, 9, none⟩ (.int .i64 nv) = wn at *
              have ct := Sn.out.2.2.2.1.cell 0 _ rfl
              by_cases hZ : q < s.size ∧ s.data.toList.getD q 0 ∈ [90, 43, 45]
              · have hc3 : s.data.toList.getD q 0 = 90 ∨ s.data.toList.getD q 0 = 43 ∨ s.data.toList.getD q 0 = 45 := by simpa using hZ.2
                rcases hc3 with hc | hc | hc
                · have HT0 := take_yes ⟨#[90, 43, 45]⟩ s (N + 3) (N + 2) q wn hs hZ Sn.out.2.1 Sn.out.2.2.1 (by omega)
                  rw [hc] at HT0
                  have HT := Lib.hid HT0
                  clear HT0
                  have ct := Sn.out.2.2.2.1.cell 0 _ rfl
                  rw [rdZ, if_pos (by rw [hlen]; exact hZ), hc] at hR
                  have hPs : q + 1 ≤ s.size := by omega
                  clear hZ hc
                  go_wp2_with fail
                  refine HT.out.mono ?_
                  rintro e wt ⟨rfl, hon, hat⟩
                  have St1 : Hid (St wt N s (q + 1) (tx 3 [b0, b1, b2, b3, b4, b5, b6, b7] nv 0)) := Sn.out.only hon hat
                  have BELt1 : Hid (Below N wc wt) := (BELn.out).trans (hon.1.mono (by omega))
                  clear hon hat ct HT
                  have cz := St1.out.1.cell 10 _ rfl
                  have fz := St1.out.1.free 10
                  have Sz2 : Hid (St (wt.setCell ⟨N + 1, 10, none⟩ (.int .u8 90)) N s (q + 1) (tx 3 [b0, b1, b2, b3, b4, b5, b6, b7] nv 90)) := St1.out.put 10 (.int .u8 90)
                  have BELz2 : Hid (Below N wc (wt.setCell ⟨N + 1, 10, none⟩ (.int .u8 90))) := BELt1.out.setCell (by show N ≤ N + 1; omega) _
                  generalize hwz : wt.setCell ⟨N + 1, 10, none⟩ (.int .u8 90) = wz2 at *
                  have cz2 := Sz2.out.1.cell 10 _ rfl
                  have hRe : Hid (R = (decide (q + 1 = s.size), 3, [b0, b1, b2, b3, b4, b5, b6, b7], nv, 90)) := by
                    show _ = _
                    rw [hR]
                    first | rw [if_pos rfl] | rw [if_pos trivial]
                    rw [hlen]; rfl
                  clear hR
                  go_wp2_with fail
                  try rw [hwz]
                  have HEn := Lib.hid (fun W (h : W = wz2.drew) => ended_any s (N + 3) (N + 2) (q + 1) W hs (by subst h; exact Sz2.out.2.1) (by subst h; exact Sz2.out.2.2.1))
                  have x0 := Sz2.out.1.cell 0 _ rfl
                  have y0 := Sz2.out.2.2.2.2.2.cell 0 _ rfl
                  have q0 := Sz2.out.2.2.2.2.2.free 0
                  have x1 := Sz2.out.1.cell 1 _ rfl
                  have y1 := Sz2.out.2.2.2.2.2.cell 1 _ rfl
                  have q1 := Sz2.out.2.2.2.2.2.free 1
                  have x2 := Sz2.out.1.cell 2 _ rfl
                  have y2 := Sz2.out.2.2.2.2.2.cell 2 _ rfl
                  have q2 := Sz2.out.2.2.2.2.2.free 2
                  have x3 := Sz2.out.1.cell 3 _ rfl
                  have y3 := Sz2.out.2.2.2.2.2.cell 3 _ rfl
                  have q3 := Sz2.out.2.2.2.2.2.free 3
                  have x4 := Sz2.out.1.cell 4 _ rfl
                  have y4 := Sz2.out.2.2.2.2.2.cell 4 _ rfl
                  have q4 := Sz2.out.2.2.2.2.2.free 4
                  have x5 := Sz2.out.1.cell 5 _ rfl
                  have y5 := Sz2.out.2.2.2.2.2.cell 5 _ rfl
                  have q5 := Sz2.out.2.2.2.2.2.free 5
                  have x6 := Sz2.out.1.cell 6 _ rfl
                  have y6 := Sz2.out.2.2.2.2.2.cell 6 _ rfl
                  have q6 := Sz2.out.2.2.2.2.2.free 6
                  have x7 := Sz2.out.1.cell 7 _ rfl
                  have y7 := Sz2.out.2.2.2.2.2.cell 7 _ rfl
                  have q7 := Sz2.out.2.2.2.2.2.free 7
                  have x8 := Sz2.out.1.cell 8 _ rfl
                  have y8 := Sz2.out.2.2.2.2.2.cell 8 _ rfl
                  have q8 := Sz2.out.2.2.2.2.2.free 8
                  have x9 := Sz2.out.1.cell 9 _ rfl
                  have y9 := Sz2.out.2.2.2.2.2.cell 9 _ rfl
                  have q9 := Sz2.out.2.2.2.2.2.free 9
                  have x10 := Sz2.out.1.cell 10 _ rfl
                  have y10 := Sz2.out.2.2.2.2.2.cell 10 _ rfl
                  have q10 := Sz2.out.2.2.2.2.2.free 10
                  go_region_law ((go_simp; go_at_call 55; refine (HEn.out _ rfl).mono ?_; rintro e w3 ⟨rfl, rfl⟩))
                  all_goals
                    rw [set11 (X := tx 0 z8 0 0) Sz2.out.2.2.2.2.2 rfl]
                    go_wp2
                    refine bodyPost_ret (v := .tuple #[.agg (tx 3 [b0, b1, b2, b3, b4, b5, b6, b7] nv 90).toArray, .bool (decide ((q + 1) = s.size))]) (fin_tx _ _ N (tx 3 [b0, b1, b2, b3, b4, b5, b6, b7] nv 90) _ rfl rfl (row_tx (Y := tx 3 [b0, b1, b2, b3, b4, b5, b6, b7] nv 90) Sz2.out.2.2.2.2.2) rfl) rfl (HF.out _ _ (by rw [hRe.out]) (below_row (hb0h.out.trans BELz2.out).drew (Nat.le_refl _) _))
                · have HT0 := take_yes ⟨#[90, 43, 45]⟩ s (N + 3) (N + 2) q wn hs hZ Sn.out.2.1 Sn.out.2.2.1 (by omega)
                  rw [hc] at HT0
                  have HT := Lib.hid HT0
                  clear HT0
                  have ct := Sn.out.2.2.2.1.cell 0 _ rfl
                  rw [rdZ, if_pos (by rw [hlen]; exact hZ), hc] at hR
                  have hPs : q + 1 ≤ s.size := by omega
                  clear hZ hc
                  go_wp2_with fail
                  refine HT.out.mono ?_
                  rintro e wt ⟨rfl, hon, hat⟩
                  have St1 : Hid (St wt N s (q + 1) (tx 3 [b0, b1, b2, b3, b4, b5, b6, b7] nv 0)) := Sn.out.only hon hat
                  have BELt1 : Hid (Below N wc wt) := (BELn.out).trans (hon.1.mono (by omega))
                  clear hon hat ct HT
                  have cz := St1.out.1.cell 10 _ rfl
                  have fz := St1.out.1.free 10
                  have Sz2 : Hid (St (wt.setCell ⟨N + 1, 10, none⟩ (.int .u8 43)) N s (q + 1) (tx 3 [b0, b1, b2, b3, b4, b5, b6, b7] nv 43)) := St1.out.put 10 (.int .u8 43)
                  have BELz2 : Hid (Below N wc (wt.setCell ⟨N + 1, 10, none⟩ (.int .u8 43))) := BELt1.out.setCell (by show N ≤ N + 1; omega) _
                  generalize hwz : wt.setCell ⟨N + 1, 10, none⟩ (.int .u8 43) = wz2 at *
                  have cz2 := Sz2.out.1.cell 10 _ rfl
                  rw [if_neg (by decide)] at hR
                  clear St1 BELt1
                  have HG : Hid (Calls Tryd.prog 42 #[.int .i64 6, .int .i64 7, .string ⟨#[58]⟩, .pointer (some ⟨N + 4, 0, none⟩), .pointer (some ⟨N + 5, 0, none⟩), .pointer (some ⟨N + 1, 0, none⟩)] wz2 (GrpP N s 3 nv 43 (grpF s.data.toList 58 6 2 6 (q + 1) [b0, b1, b2, b3, b4, b5, b6, b7]) wz2)) := group_any s 58 N 6 2 (q + 1) 3 nv 43 [b0, b1, b2, b3, b4, b5, b6, b7] wz2 hs (by omega) (by omega) rfl (by omega) (by decide) Sz2.out
                  generalize grpF s.data.toList 58 6 2 6 (q + 1) [b0, b1, b2, b3, b4, b5, b6, b7] = g at *
                  obtain ⟨gok, gp, gf⟩ := g
                  go_wp2_with fail
                  refine HG.out.mono ?_
                  rintro e wg ⟨rfl, Sg0, Og0, hgp, hgf⟩
                  have Sg := Lib.hid Sg0
                  have hgfh := Lib.hid hgf
                  have BELg : Hid (Below N wc wg) := (BELz2.out).trans Og0.1
                  clear Sg0 Og0 hgf HG
                  have hgp' : gp ≤ s.size := hgp
                  cases gok with
                  | false =>
                    have hRe : Hid (R = bad5) := hR
                    have hBz := Sg.out.2.2.2.2.2
                    go_wp2_with (refine wpList_store_row rfl 43 (.tmp 2) (.tmp 76) rfl N _ rfl rfl 43 _ hBz (by kernel_rfl) (by kernel_rfl) (by kernel_rfl) ?_)
                    refine bodyPost_ret (v := .tuple #[.agg (tx 0 z8 0 0).toArray, .bool false]) (fin_tx _ _ N (tx 0 z8 0 0) _ rfl rfl (row_tx (Y := tx 0 z8 0 0) hBz) rfl) rfl (HF.out _ _ (by rw [hRe.out]; rfl) (below_row (hb0h.out.trans BELg.out) (Nat.le_refl _) _))
                  | true =>
                    obtain ⟨c0, c1, c2, c3, c4, c5, c6, c7, rfl⟩ := list8 gf hgfh.out
                    have hRe : Hid (R = (decide (gp = s.size), 3, [c0, c1, c2, c3, c4, c5, c6, c7], nv, 43)) := by
                      show _ = _
                      rw [hR, if_pos rfl, hlen]; rfl
                    clear hR
                    go_wp2_with fail
                    have HEn := Lib.hid (fun W (h : W = wg.drew) => ended_any s (N + 3) (N + 2) gp W hs (by subst h; exact Sg.out.2.1) (by subst h; exact Sg.out.2.2.1))
                    have x0 := Sg.out.1.cell 0 _ rfl
                    have y0 := Sg.out.2.2.2.2.2.cell 0 _ rfl
                    have q0 := Sg.out.2.2.2.2.2.free 0
                    have x1 := Sg.out.1.cell 1 _ rfl
                    have y1 := Sg.out.2.2.2.2.2.cell 1 _ rfl
                    have q1 := Sg.out.2.2.2.2.2.free 1
                    have x2 := Sg.out.1.cell 2 _ rfl
                    have y2 := Sg.out.2.2.2.2.2.cell 2 _ rfl
                    have q2 := Sg.out.2.2.2.2.2.free 2
                    have x3 := Sg.out.1.cell 3 _ rfl
                    have y3 := Sg.out.2.2.2.2.2.cell 3 _ rfl
                    have q3 := Sg.out.2.2.2.2.2.free 3
                    have x4 := Sg.out.1.cell 4 _ rfl
                    have y4 := Sg.out.2.2.2.2.2.cell 4 _ rfl
                    have q4 := Sg.out.2.2.2.2.2.free 4
                    have x5 := Sg.out.1.cell 5 _ rfl
                    have y5 := Sg.out.2.2.2.2.2.cell 5 _ rfl
                    have q5 := Sg.out.2.2.2.2.2.free 5
                    have x6 := Sg.out.1.cell 6 _ rfl
                    have y6 := Sg.out.2.2.2.2.2.cell 6 _ rfl
                    have q6 := Sg.out.2.2.2.2.2.free 6
                    have x7 := Sg.out.1.cell 7 _ rfl
                    have y7 := Sg.out.2.2.2.2.2.cell 7 _ rfl
                    have q7 := Sg.out.2.2.2.2.2.free 7
                    have x8 := Sg.out.1.cell 8 _ rfl
                    have y8 := Sg.out.2.2.2.2.2.cell 8 _ rfl
                    have q8 := Sg.out.2.2.2.2.2.free 8
                    have x9 := Sg.out.1.cell 9 _ rfl
                    have y9 := Sg.out.2.2.2.2.2.cell 9 _ rfl
                    have q9 := Sg.out.2.2.2.2.2.free 9
                    have x10 := Sg.out.1.cell 10 _ rfl
                    have y10 := Sg.out.2.2.2.2.2.cell 10 _ rfl
                    have q10 := Sg.out.2.2.2.2.2.free 10
                    go_region_law ((go_simp; go_at_call 55; refine (HEn.out _ rfl).mono ?_; rintro e w3 ⟨rfl, rfl⟩))
                    all_goals
                      rw [set11 (X := tx 0 z8 0 0) Sg.out.2.2.2.2.2 rfl]
                      go_wp2
                      refine bodyPost_ret (v := .tuple #[.agg (tx 3 [c0, c1, c2, c3, c4, c5, c6, c7] nv 43).toArray, .bool (decide (gp = s.size))]) (fin_tx _ _ N (tx 3 [c0, c1, c2, c3, c4, c5, c6, c7] nv 43) _ rfl rfl (row_tx (Y := tx 3 [c0, c1, c2, c3, c4, c5, c6, c7] nv 43) Sg.out.2.2.2.2.2) rfl) rfl (HF.out _ _ (by rw [hRe.out]) (below_row (hb0h.out.trans BELg.out).drew (Nat.le_refl _) _))
                · have HT0 := take_yes ⟨#[90, 43, 45]⟩ s (N + 3) (N + 2) q wn hs hZ Sn.out.2.1 Sn.out.2.2.1 (by omega)
                  rw [hc] at HT0
                  have HT := Lib.hid HT0
                  clear HT0
                  have ct := Sn.out.2.2.2.1.cell 0 _ rfl
                  rw [rdZ, if_pos (by rw [hlen]; exact hZ), hc] at hR
                  have hPs : q + 1 ≤ s.size := by omega
                  clear hZ hc
                  go_wp2_with fail
                  refine HT.out.mono ?_
                  rintro e wt ⟨rfl, hon, hat⟩
                  have St1 : Hid (St wt N s (q + 1) (tx 3 [b0, b1, b2, b3, b4, b5, b6, b7] nv 0)) := Sn.out.only hon hat
                  have BELt1 : Hid (Below N wc wt) := (BELn.out).trans (hon.1.mono (by omega))
                  clear hon hat ct HT
                  have cz := St1.out.1.cell 10 _ rfl
                  have fz := St1.out.1.free 10
                  have Sz2 : Hid (St (wt.setCell ⟨N + 1, 10, none⟩ (.int .u8 45)) N s (q + 1) (tx 3 [b0, b1, b2, b3, b4, b5, b6, b7] nv 45)) := St1.out.put 10 (.int .u8 45)
                  have BELz2 : Hid (Below N wc (wt.setCell ⟨N + 1, 10, none⟩ (.int .u8 45))) := BELt1.out.setCell (by show N ≤ N + 1; omega) _
                  generalize hwz : wt.setCell ⟨N + 1, 10, none⟩ (.int .u8 45) = wz2 at *
                  have cz2 := Sz2.out.1.cell 10 _ rfl
                  rw [if_neg (by decide)] at hR
                  clear St1 BELt1
                  have HG : Hid (Calls Tryd.prog 42 #[.int .i64 6, .int .i64 7, .string ⟨#[58]⟩, .pointer (some ⟨N + 4, 0, none⟩), .pointer (some ⟨N + 5, 0, none⟩), .pointer (some ⟨N + 1, 0, none⟩)] wz2 (GrpP N s 3 nv 45 (grpF s.data.toList 58 6 2 6 (q + 1) [b0, b1, b2, b3, b4, b5, b6, b7]) wz2)) := group_any s 58 N 6 2 (q + 1) 3 nv 45 [b0, b1, b2, b3, b4, b5, b6, b7] wz2 hs (by omega) (by omega) rfl (by omega) (by decide) Sz2.out
                  generalize grpF s.data.toList 58 6 2 6 (q + 1) [b0, b1, b2, b3, b4, b5, b6, b7] = g at *
                  obtain ⟨gok, gp, gf⟩ := g
                  go_wp2_with fail
                  refine HG.out.mono ?_
                  rintro e wg ⟨rfl, Sg0, Og0, hgp, hgf⟩
                  have Sg := Lib.hid Sg0
                  have hgfh := Lib.hid hgf
                  have BELg : Hid (Below N wc wg) := (BELz2.out).trans Og0.1
                  clear Sg0 Og0 hgf HG
                  have hgp' : gp ≤ s.size := hgp
                  cases gok with
                  | false =>
                    have hRe : Hid (R = bad5) := hR
                    have hBz := Sg.out.2.2.2.2.2
                    go_wp2_with (refine wpList_store_row rfl 43 (.tmp 2) (.tmp 76) rfl N _ rfl rfl 43 _ hBz (by kernel_rfl) (by kernel_rfl) (by kernel_rfl) ?_)
                    refine bodyPost_ret (v := .tuple #[.agg (tx 0 z8 0 0).toArray, .bool false]) (fin_tx _ _ N (tx 0 z8 0 0) _ rfl rfl (row_tx (Y := tx 0 z8 0 0) hBz) rfl) rfl (HF.out _ _ (by rw [hRe.out]; rfl) (below_row (hb0h.out.trans BELg.out) (Nat.le_refl _) _))
                  | true =>
                    obtain ⟨c0, c1, c2, c3, c4, c5, c6, c7, rfl⟩ := list8 gf hgfh.out
                    have hRe : Hid (R = (decide (gp = s.size), 3, [c0, c1, c2, c3, c4, c5, c6, c7], nv, 45)) := by
                      show _ = _
                      rw [hR, if_pos rfl, hlen]; rfl
                    clear hR
                    go_wp2_with fail
                    have HEn := Lib.hid (fun W (h : W = wg.drew) => ended_any s (N + 3) (N + 2) gp W hs (by subst h; exact Sg.out.2.1) (by subst h; exact Sg.out.2.2.1))
                    have x0 := Sg.out.1.cell 0 _ rfl
                    have y0 := Sg.out.2.2.2.2.2.cell 0 _ rfl
                    have q0 := Sg.out.2.2.2.2.2.free 0
                    have x1 := Sg.out.1.cell 1 _ rfl
                    have y1 := Sg.out.2.2.2.2.2.cell 1 _ rfl
                    have q1 := Sg.out.2.2.2.2.2.free 1
                    have x2 := Sg.out.1.cell 2 _ rfl
                    have y2 := Sg.out.2.2.2.2.2.cell 2 _ rfl
                    have q2 := Sg.out.2.2.2.2.2.free 2
                    have x3 := Sg.out.1.cell 3 _ rfl
                    have y3 := Sg.out.2.2.2.2.2.cell 3 _ rfl
                    have q3 := Sg.out.2.2.2.2.2.free 3
                    have x4 := Sg.out.1.cell 4 _ rfl
                    have y4 := Sg.out.2.2.2.2.2.cell 4 _ rfl
                    have q4 := Sg.out.2.2.2.2.2.free 4
                    have x5 := Sg.out.1.cell 5 _ rfl
                    have y5 := Sg.out.2.2.2.2.2.cell 5 _ rfl
                    have q5 := Sg.out.2.2.2.2.2.free 5
                    have x6 := Sg.out.1.cell 6 _ rfl
                    have y6 := Sg.out.2.2.2.2.2.cell 6 _ rfl
                    have q6 := Sg.out.2.2.2.2.2.free 6
                    have x7 := Sg.out.1.cell 7 _ rfl
                    have y7 := Sg.out.2.2.2.2.2.cell 7 _ rfl
                    have q7 := Sg.out.2.2.2.2.2.free 7
                    have x8 := Sg.out.1.cell 8 _ rfl
                    have y8 := Sg.out.2.2.2.2.2.cell 8 _ rfl
                    have q8 := Sg.out.2.2.2.2.2.free 8
                    have x9 := Sg.out.1.cell 9 _ rfl
                    have y9 := Sg.out.2.2.2.2.2.cell 9 _ rfl
                    have q9 := Sg.out.2.2.2.2.2.free 9
                    have x10 := Sg.out.1.cell 10 _ rfl
                    have y10 := Sg.out.2.2.2.2.2.cell 10 _ rfl
                    have q10 := Sg.out.2.2.2.2.2.free 10
                    go_region_law ((go_simp; go_at_call 55; refine (HEn.out _ rfl).mono ?_; rintro e w3 ⟨rfl, rfl⟩))
                    all_goals
                      rw [set11 (X := tx 0 z8 0 0) Sg.out.2.2.2.2.2 rfl]
                      go_wp2
                      refine bodyPost_ret (v := .tuple #[.agg (tx 3 [c0, c1, c2, c3, c4, c5, c6, c7] nv 45).toArray, .bool (decide (gp = s.size))]) (fin_tx _ _ N (tx 3 [c0, c1, c2, c3, c4, c5, c6, c7] nv 45) _ rfl rfl (row_tx (Y := tx 3 [c0, c1, c2, c3, c4, c5, c6, c7] nv 45) Sg.out.2.2.2.2.2) rfl) rfl (HF.out _ _ (by rw [hRe.out]) (below_row (hb0h.out.trans BELg.out).drew (Nat.le_refl _) _))
              · have HT := Lib.hid (take_no ⟨#[90, 43, 45]⟩ s (N + 3) (N + 2) q wn hs (by omega) hZ Sn.out.2.1 Sn.out.2.2.1)
                have hRe : Hid (R = (decide (q = s.size), 3, [b0, b1, b2, b3, b4, b5, b6, b7], nv, 0)) := by
                  show _ = _
                  rw [hR, rdZ, if_neg (by rw [hlen]; exact hZ), hlen]
                have ct := Sn.out.2.2.2.1.cell 0 _ rfl
                have cz := Sn.out.1.cell 10 _ rfl
                have fz := Sn.out.1.free 10
                have Sz2 : Hid (St (wn.setCell ⟨N + 1, 10, none⟩ (.int .u8 0)) N s q (tx 3 [b0, b1, b2, b3, b4, b5, b6, b7] nv 0)) := Sn.out.put 10 (.int .u8 0)
                have BELz2 : Hid (Below N wc (wn.setCell ⟨N + 1, 10, none⟩ (.int .u8 0))) := (BELn.out).setCell (by show N ≤ N + 1; omega) _
                clear hZ hR
                generalize hwz : wn.setCell ⟨N + 1, 10, none⟩ (.int .u8 0) = wz2 at *
                have cz2 := Sz2.out.1.cell 10 _ rfl
                go_wp2_with fail
                refine HT.out.mono ?_
                rintro e w3 ⟨rfl, rfl⟩
                try rw [hwz]
                go_wp2_with fail
                try rw [hwz]
                have HEn := Lib.hid (fun W (h : W = wz2.drew) => ended_any s (N + 3) (N + 2) q W hs (by subst h; exact Sz2.out.2.1) (by subst h; exact Sz2.out.2.2.1))
                have x0 := Sz2.out.1.cell 0 _ rfl
                have y0 := Sz2.out.2.2.2.2.2.cell 0 _ rfl
                have q0 := Sz2.out.2.2.2.2.2.free 0
                have x1 := Sz2.out.1.cell 1 _ rfl
                have y1 := Sz2.out.2.2.2.2.2.cell 1 _ rfl
                have q1 := Sz2.out.2.2.2.2.2.free 1
                have x2 := Sz2.out.1.cell 2 _ rfl
                have y2 := Sz2.out.2.2.2.2.2.cell 2 _ rfl
                have q2 := Sz2.out.2.2.2.2.2.free 2
                have x3 := Sz2.out.1.cell 3 _ rfl
                have y3 := Sz2.out.2.2.2.2.2.cell 3 _ rfl
                have q3 := Sz2.out.2.2.2.2.2.free 3
                have x4 := Sz2.out.1.cell 4 _ rfl
                have y4 := Sz2.out.2.2.2.2.2.cell 4 _ rfl
                have q4 := Sz2.out.2.2.2.2.2.free 4
                have x5 := Sz2.out.1.cell 5 _ rfl
                have y5 := Sz2.out.2.2.2.2.2.cell 5 _ rfl
                have q5 := Sz2.out.2.2.2.2.2.free 5
                have x6 := Sz2.out.1.cell 6 _ rfl
                have y6 := Sz2.out.2.2.2.2.2.cell 6 _ rfl
                have q6 := Sz2.out.2.2.2.2.2.free 6
                have x7 := Sz2.out.1.cell 7 _ rfl
                have y7 := Sz2.out.2.2.2.2.2.cell 7 _ rfl
                have q7 := Sz2.out.2.2.2.2.2.free 7
                have x8 := Sz2.out.1.cell 8 _ rfl
                have y8 := Sz2.out.2.2.2.2.2.cell 8 _ rfl
                have q8 := Sz2.out.2.2.2.2.2.free 8
                have x9 := Sz2.out.1.cell 9 _ rfl
                have y9 := Sz2.out.2.2.2.2.2.cell 9 _ rfl
                have q9 := Sz2.out.2.2.2.2.2.free 9
                have x10 := Sz2.out.1.cell 10 _ rfl
                have y10 := Sz2.out.2.2.2.2.2.cell 10 _ rfl
                have q10 := Sz2.out.2.2.2.2.2.free 10
                go_region_law ((go_simp; go_at_call 55; refine (HEn.out _ rfl).mono ?_; rintro e w3 ⟨rfl, rfl⟩))
                all_goals
                  rw [set11 (X := tx 0 z8 0 0) Sz2.out.2.2.2.2.2 rfl]
                  go_wp2
                  refine bodyPost_ret (v := .tuple #[.agg (tx 3 [b0, b1, b2, b3, b4, b5, b6, b7] nv 0).toArray, .bool (decide (q = s.size))]) (fin_tx _ _ N (tx 3 [b0, b1, b2, b3, b4, b5, b6, b7] nv 0) _ rfl rfl (row_tx (Y := tx 3 [b0, b1, b2, b3, b4, b5, b6, b7] nv 0) Sz2.out.2.2.2.2.2) rfl) rfl (HF.out _ _ (by rw [hRe.out]) (below_row (hb0h.out.trans BELz2.out).drew (Nat.le_refl _) _))
          · have HT := Lib.hid (take_no ⟨#[46]⟩ s (N + 3) (N + 2) gp w3 hs (by omega) hF S3.out.2.1 S3.out.2.2.1)
            have ct := S3.out.2.2.2.1.cell 0 _ rfl
            rw [rdF, if_neg (by rw [hlen]; exact hF)] at hR
            clear hF
            go_wp2_with fail
            refine HT.out.mono ?_
            rintro e w3 ⟨rfl, rfl⟩
            clear ct HT
            by_cases hZ : gp < s.size ∧ s.data.toList.getD gp 0 ∈ [90, 43, 45]
            · have hc3 : s.data.toList.getD gp 0 = 90 ∨ s.data.toList.getD gp 0 = 43 ∨ s.data.toList.getD gp 0 = 45 := by simpa using hZ.2
              rcases hc3 with hc | hc | hc
              · have HT0 := take_yes ⟨#[90, 43, 45]⟩ s (N + 3) (N + 2) gp w3 hs hZ S3.out.2.1 S3.out.2.2.1 (by omega)
                rw [hc] at HT0
                have HT := Lib.hid HT0
                clear HT0
                have ct := S3.out.2.2.2.1.cell 0 _ rfl
                rw [rdZ, if_pos (by rw [hlen]; exact hZ), hc] at hR
                have hPs : gp + 1 ≤ s.size := by omega
                clear hZ hc
                go_wp2_with fail
                refine HT.out.mono ?_
                rintro e wt ⟨rfl, hon, hat⟩
                have St1 : Hid (St wt N s (gp + 1) (tx 3 [b0, b1, b2, b3, b4, b5, b6, b7] 0 0)) := S3.out.only hon hat
                have BELt1 : Hid (Below N wc wt) := (BEL3.out).trans (hon.1.mono (by omega))
                clear hon hat ct HT
                have cz := St1.out.1.cell 10 _ rfl
                have fz := St1.out.1.free 10
                have Sz2 : Hid (St (wt.setCell ⟨N + 1, 10, none⟩ (.int .u8 90)) N s (gp + 1) (tx 3 [b0, b1, b2, b3, b4, b5, b6, b7] 0 90)) := St1.out.put 10 (.int .u8 90)
                have BELz2 : Hid (Below N wc (wt.setCell ⟨N + 1, 10, none⟩ (.int .u8 90))) := BELt1.out.setCell (by show N ≤ N + 1; omega) _
                generalize hwz : wt.setCell ⟨N + 1, 10, none⟩ (.int .u8 90) = wz2 at *
                have cz2 := Sz2.out.1.cell 10 _ rfl
                have hRe : Hid (R = (decide (gp + 1 = s.size), 3, [b0, b1, b2, b3, b4, b5, b6, b7], 0, 90)) := by
                  show _ = _
                  rw [hR]
                  first | rw [if_pos rfl] | rw [if_pos trivial]
                  rw [hlen]; rfl
                clear hR
                go_wp2_with fail
                try rw [hwz]
                have HEn := Lib.hid (fun W (h : W = wz2.drew) => ended_any s (N + 3) (N + 2) (gp + 1) W hs (by subst h; exact Sz2.out.2.1) (by subst h; exact Sz2.out.2.2.1))
                have x0 := Sz2.out.1.cell 0 _ rfl
                have y0 := Sz2.out.2.2.2.2.2.cell 0 _ rfl
                have q0 := Sz2.out.2.2.2.2.2.free 0
                have x1 := Sz2.out.1.cell 1 _ rfl
                have y1 := Sz2.out.2.2.2.2.2.cell 1 _ rfl
                have q1 := Sz2.out.2.2.2.2.2.free 1
                have x2 := Sz2.out.1.cell 2 _ rfl
                have y2 := Sz2.out.2.2.2.2.2.cell 2 _ rfl
                have q2 := Sz2.out.2.2.2.2.2.free 2
                have x3 := Sz2.out.1.cell 3 _ rfl
                have y3 := Sz2.out.2.2.2.2.2.cell 3 _ rfl
                have q3 := Sz2.out.2.2.2.2.2.free 3
                have x4 := Sz2.out.1.cell 4 _ rfl
                have y4 := Sz2.out.2.2.2.2.2.cell 4 _ rfl
                have q4 := Sz2.out.2.2.2.2.2.free 4
                have x5 := Sz2.out.1.cell 5 _ rfl
                have y5 := Sz2.out.2.2.2.2.2.cell 5 _ rfl
                have q5 := Sz2.out.2.2.2.2.2.free 5
                have x6 := Sz2.out.1.cell 6 _ rfl
                have y6 := Sz2.out.2.2.2.2.2.cell 6 _ rfl
                have q6 := Sz2.out.2.2.2.2.2.free 6
                have x7 := Sz2.out.1.cell 7 _ rfl
                have y7 := Sz2.out.2.2.2.2.2.cell 7 _ rfl
                have q7 := Sz2.out.2.2.2.2.2.free 7
                have x8 := Sz2.out.1.cell 8 _ rfl
                have y8 := Sz2.out.2.2.2.2.2.cell 8 _ rfl
                have q8 := Sz2.out.2.2.2.2.2.free 8
                have x9 := Sz2.out.1.cell 9 _ rfl
                have y9 := Sz2.out.2.2.2.2.2.cell 9 _ rfl
                have q9 := Sz2.out.2.2.2.2.2.free 9
                have x10 := Sz2.out.1.cell 10 _ rfl
                have y10 := Sz2.out.2.2.2.2.2.cell 10 _ rfl
                have q10 := Sz2.out.2.2.2.2.2.free 10
                go_region_law ((go_simp; go_at_call 55; refine (HEn.out _ rfl).mono ?_; rintro e w3 ⟨rfl, rfl⟩))
                all_goals
                  rw [set11 (X := tx 0 z8 0 0) Sz2.out.2.2.2.2.2 rfl]
                  go_wp2
                  refine bodyPost_ret (v := .tuple #[.agg (tx 3 [b0, b1, b2, b3, b4, b5, b6, b7] 0 90).toArray, .bool (decide ((gp + 1) = s.size))]) (fin_tx _ _ N (tx 3 [b0, b1, b2, b3, b4, b5, b6, b7] 0 90) _ rfl rfl (row_tx (Y := tx 3 [b0, b1, b2, b3, b4, b5, b6, b7] 0 90) Sz2.out.2.2.2.2.2) rfl) rfl (HF.out _ _ (by rw [hRe.out]) (below_row (hb0h.out.trans BELz2.out).drew (Nat.le_refl _) _))
              · have HT0 := take_yes ⟨#[90, 43, 45]⟩ s (N + 3) (N + 2) gp w3 hs hZ S3.out.2.1 S3.out.2.2.1 (by omega)
                rw [hc] at HT0
                have HT := Lib.hid HT0
                clear HT0
                have ct := S3.out.2.2.2.1.cell 0 _ rfl
                rw [rdZ, if_pos (by rw [hlen]; exact hZ), hc] at hR
                have hPs : gp + 1 ≤ s.size := by omega
                clear hZ hc
                go_wp2_with fail
                refine HT.out.mono ?_
                rintro e wt ⟨rfl, hon, hat⟩
                have St1 : Hid (St wt N s (gp + 1) (tx 3 [b0, b1, b2, b3, b4, b5, b6, b7] 0 0)) := S3.out.only hon hat
                have BELt1 : Hid (Below N wc wt) := (BEL3.out).trans (hon.1.mono (by omega))
                clear hon hat ct HT
                have cz := St1.out.1.cell 10 _ rfl
                have fz := St1.out.1.free 10
                have Sz2 : Hid (St (wt.setCell ⟨N + 1, 10, none⟩ (.int .u8 43)) N s (gp + 1) (tx 3 [b0, b1, b2, b3, b4, b5, b6, b7] 0 43)) := St1.out.put 10 (.int .u8 43)
                have BELz2 : Hid (Below N wc (wt.setCell ⟨N + 1, 10, none⟩ (.int .u8 43))) := BELt1.out.setCell (by show N ≤ N + 1; omega) _
                generalize hwz : wt.setCell ⟨N + 1, 10, none⟩ (.int .u8 43) = wz2 at *
                have cz2 := Sz2.out.1.cell 10 _ rfl
                rw [if_neg (by decide)] at hR
                clear St1 BELt1
                have HG : Hid (Calls Tryd.prog 42 #[.int .i64 6, .int .i64 7, .string ⟨#[58]⟩, .pointer (some ⟨N + 4, 0, none⟩), .pointer (some ⟨N + 5, 0, none⟩), .pointer (some ⟨N + 1, 0, none⟩)] wz2 (GrpP N s 3 0 43 (grpF s.data.toList 58 6 2 6 (gp + 1) [b0, b1, b2, b3, b4, b5, b6, b7]) wz2)) := group_any s 58 N 6 2 (gp + 1) 3 0 43 [b0, b1, b2, b3, b4, b5, b6, b7] wz2 hs (by omega) (by omega) rfl (by omega) (by decide) Sz2.out
                generalize grpF s.data.toList 58 6 2 6 (gp + 1) [b0, b1, b2, b3, b4, b5, b6, b7] = g at *
                obtain ⟨gok, gp, gf⟩ := g
                go_wp2_with fail
                refine HG.out.mono ?_
                rintro e wg ⟨rfl, Sg0, Og0, hgp, hgf⟩
                have Sg := Lib.hid Sg0
                have hgfh := Lib.hid hgf
                have BELg : Hid (Below N wc wg) := (BELz2.out).trans Og0.1
                clear Sg0 Og0 hgf HG
                have hgp' : gp ≤ s.size := hgp
                cases gok with
                | false =>
                  have hRe : Hid (R = bad5) := hR
                  have hBz := Sg.out.2.2.2.2.2
                  go_wp2_with (refine wpList_store_row rfl 43 (.tmp 2) (.tmp 76) rfl N _ rfl rfl 43 _ hBz (by kernel_rfl) (by kernel_rfl) (by kernel_rfl) ?_)
                  refine bodyPost_ret (v := .tuple #[.agg (tx 0 z8 0 0).toArray, .bool false]) (fin_tx _ _ N (tx 0 z8 0 0) _ rfl rfl (row_tx (Y := tx 0 z8 0 0) hBz) rfl) rfl (HF.out _ _ (by rw [hRe.out]; rfl) (below_row (hb0h.out.trans BELg.out) (Nat.le_refl _) _))
                | true =>
                  obtain ⟨c0, c1, c2, c3, c4, c5, c6, c7, rfl⟩ := list8 gf hgfh.out
                  have hRe : Hid (R = (decide (gp = s.size), 3, [c0, c1, c2, c3, c4, c5, c6, c7], 0, 43)) := by
                    show _ = _
                    rw [hR, if_pos rfl, hlen]; rfl
                  clear hR
                  go_wp2_with fail
                  have HEn := Lib.hid (fun W (h : W = wg.drew) => ended_any s (N + 3) (N + 2) gp W hs (by subst h; exact Sg.out.2.1) (by subst h; exact Sg.out.2.2.1))
                  have x0 := Sg.out.1.cell 0 _ rfl
                  have y0 := Sg.out.2.2.2.2.2.cell 0 _ rfl
                  have q0 := Sg.out.2.2.2.2.2.free 0
                  have x1 := Sg.out.1.cell 1 _ rfl
                  have y1 := Sg.out.2.2.2.2.2.cell 1 _ rfl
                  have q1 := Sg.out.2.2.2.2.2.free 1
                  have x2 := Sg.out.1.cell 2 _ rfl
                  have y2 := Sg.out.2.2.2.2.2.cell 2 _ rfl
                  have q2 := Sg.out.2.2.2.2.2.free 2
                  have x3 := Sg.out.1.cell 3 _ rfl
                  have y3 := Sg.out.2.2.2.2.2.cell 3 _ rfl
                  have q3 := Sg.out.2.2.2.2.2.free 3
                  have x4 := Sg.out.1.cell 4 _ rfl
                  have y4 := Sg.out.2.2.2.2.2.cell 4 _ rfl
                  have q4 := Sg.out.2.2.2.2.2.free 4
                  have x5 := Sg.out.1.cell 5 _ rfl
                  have y5 := Sg.out.2.2.2.2.2.cell 5 _ rfl
                  have q5 := Sg.out.2.2.2.2.2.free 5
                  have x6 := Sg.out.1.cell 6 _ rfl
                  have y6 := Sg.out.2.2.2.2.2.cell 6 _ rfl
                  have q6 := Sg.out.2.2.2.2.2.free 6
                  have x7 := Sg.out.1.cell 7 _ rfl
                  have y7 := Sg.out.2.2.2.2.2.cell 7 _ rfl
                  have q7 := Sg.out.2.2.2.2.2.free 7
                  have x8 := Sg.out.1.cell 8 _ rfl
                  have y8 := Sg.out.2.2.2.2.2.cell 8 _ rfl
                  have q8 := Sg.out.2.2.2.2.2.free 8
                  have x9 := Sg.out.1.cell 9 _ rfl
                  have y9 := Sg.out.2.2.2.2.2.cell 9 _ rfl
                  have q9 := Sg.out.2.2.2.2.2.free 9
                  have x10 := Sg.out.1.cell 10 _ rfl
                  have y10 := Sg.out.2.2.2.2.2.cell 10 _ rfl
                  have q10 := Sg.out.2.2.2.2.2.free 10
                  go_region_law ((go_simp; go_at_call 55; refine (HEn.out _ rfl).mono ?_; rintro e w3 ⟨rfl, rfl⟩))
                  all_goals
                    rw [set11 (X := tx 0 z8 0 0) Sg.out.2.2.2.2.2 rfl]
                    go_wp2
                    refine bodyPost_ret (v := .tuple #[.agg (tx 3 [c0, c1, c2, c3, c4, c5, c6, c7] 0 43).toArray, .bool (decide (gp = s.size))]) (fin_tx _ _ N (tx 3 [c0, c1, c2, c3, c4, c5, c6, c7] 0 43) _ rfl rfl (row_tx (Y := tx 3 [c0, c1, c2, c3, c4, c5, c6, c7] 0 43) Sg.out.2.2.2.2.2) rfl) rfl (HF.out _ _ (by rw [hRe.out]) (below_row (hb0h.out.trans BELg.out).drew (Nat.le_refl _) _))
              · have HT0 := take_yes ⟨#[90, 43, 45]⟩ s (N + 3) (N + 2) gp w3 hs hZ S3.out.2.1 S3.out.2.2.1 (by omega)
                rw [hc] at HT0
                have HT := Lib.hid HT0
                clear HT0
                have ct := S3.out.2.2.2.1.cell 0 _ rfl
                rw [rdZ, if_pos (by rw [hlen]; exact hZ), hc] at hR
                have hPs : gp + 1 ≤ s.size := by omega
                clear hZ hc
                go_wp2_with fail
                refine HT.out.mono ?_
                rintro e wt ⟨rfl, hon, hat⟩
                have St1 : Hid (St wt N s (gp + 1) (tx 3 [b0, b1, b2, b3, b4, b5, b6, b7] 0 0)) := S3.out.only hon hat
                have BELt1 : Hid (Below N wc wt) := (BEL3.out).trans (hon.1.mono (by omega))
                clear hon hat ct HT
                have cz := St1.out.1.cell 10 _ rfl
                have fz := St1.out.1.free 10
                have Sz2 : Hid (St (wt.setCell ⟨N + 1, 10, none⟩ (.int .u8 45)) N s (gp + 1) (tx 3 [b0, b1, b2, b3, b4, b5, b6, b7] 0 45)) := St1.out.put 10 (.int .u8 45)
                have BELz2 : Hid (Below N wc (wt.setCell ⟨N + 1, 10, none⟩ (.int .u8 45))) := BELt1.out.setCell (by show N ≤ N + 1; omega) _
                generalize hwz : wt.setCell ⟨N + 1, 10, none⟩ (.int .u8 45) = wz2 at *
                have cz2 := Sz2.out.1.cell 10 _ rfl
                rw [if_neg (by decide)] at hR
                clear St1 BELt1
                have HG : Hid (Calls Tryd.prog 42 #[.int .i64 6, .int .i64 7, .string ⟨#[58]⟩, .pointer (some ⟨N + 4, 0, none⟩), .pointer (some ⟨N + 5, 0, none⟩), .pointer (some ⟨N + 1, 0, none⟩)] wz2 (GrpP N s 3 0 45 (grpF s.data.toList 58 6 2 6 (gp + 1) [b0, b1, b2, b3, b4, b5, b6, b7]) wz2)) := group_any s 58 N 6 2 (gp + 1) 3 0 45 [b0, b1, b2, b3, b4, b5, b6, b7] wz2 hs (by omega) (by omega) rfl (by omega) (by decide) Sz2.out
                generalize grpF s.data.toList 58 6 2 6 (gp + 1) [b0, b1, b2, b3, b4, b5, b6, b7] = g at *
                obtain ⟨gok, gp, gf⟩ := g
                go_wp2_with fail
                refine HG.out.mono ?_
                rintro e wg ⟨rfl, Sg0, Og0, hgp, hgf⟩
                have Sg := Lib.hid Sg0
                have hgfh := Lib.hid hgf
                have BELg : Hid (Below N wc wg) := (BELz2.out).trans Og0.1
                clear Sg0 Og0 hgf HG
                have hgp' : gp ≤ s.size := hgp
                cases gok with
                | false =>
                  have hRe : Hid (R = bad5) := hR
                  have hBz := Sg.out.2.2.2.2.2
                  go_wp2_with (refine wpList_store_row rfl 43 (.tmp 2) (.tmp 76) rfl N _ rfl rfl 43 _ hBz (by kernel_rfl) (by kernel_rfl) (by kernel_rfl) ?_)
                  refine bodyPost_ret (v := .tuple #[.agg (tx 0 z8 0 0).toArray, .bool false]) (fin_tx _ _ N (tx 0 z8 0 0) _ rfl rfl (row_tx (Y := tx 0 z8 0 0) hBz) rfl) rfl (HF.out _ _ (by rw [hRe.out]; rfl) (below_row (hb0h.out.trans BELg.out) (Nat.le_refl _) _))
                | true =>
                  obtain ⟨c0, c1, c2, c3, c4, c5, c6, c7, rfl⟩ := list8 gf hgfh.out
                  have hRe : Hid (R = (decide (gp = s.size), 3, [c0, c1, c2, c3, c4, c5, c6, c7], 0, 45)) := by
                    show _ = _
                    rw [hR, if_pos rfl, hlen]; rfl
                  clear hR
                  go_wp2_with fail
                  have HEn := Lib.hid (fun W (h : W = wg.drew) => ended_any s (N + 3) (N + 2) gp W hs (by subst h; exact Sg.out.2.1) (by subst h; exact Sg.out.2.2.1))
                  have x0 := Sg.out.1.cell 0 _ rfl
                  have y0 := Sg.out.2.2.2.2.2.cell 0 _ rfl
                  have q0 := Sg.out.2.2.2.2.2.free 0
                  have x1 := Sg.out.1.cell 1 _ rfl
                  have y1 := Sg.out.2.2.2.2.2.cell 1 _ rfl
                  have q1 := Sg.out.2.2.2.2.2.free 1
                  have x2 := Sg.out.1.cell 2 _ rfl
                  have y2 := Sg.out.2.2.2.2.2.cell 2 _ rfl
                  have q2 := Sg.out.2.2.2.2.2.free 2
                  have x3 := Sg.out.1.cell 3 _ rfl
                  have y3 := Sg.out.2.2.2.2.2.cell 3 _ rfl
                  have q3 := Sg.out.2.2.2.2.2.free 3
                  have x4 := Sg.out.1.cell 4 _ rfl
                  have y4 := Sg.out.2.2.2.2.2.cell 4 _ rfl
                  have q4 := Sg.out.2.2.2.2.2.free 4
                  have x5 := Sg.out.1.cell 5 _ rfl
                  have y5 := Sg.out.2.2.2.2.2.cell 5 _ rfl
                  have q5 := Sg.out.2.2.2.2.2.free 5
                  have x6 := Sg.out.1.cell 6 _ rfl
                  have y6 := Sg.out.2.2.2.2.2.cell 6 _ rfl
                  have q6 := Sg.out.2.2.2.2.2.free 6
                  have x7 := Sg.out.1.cell 7 _ rfl
                  have y7 := Sg.out.2.2.2.2.2.cell 7 _ rfl
                  have q7 := Sg.out.2.2.2.2.2.free 7
                  have x8 := Sg.out.1.cell 8 _ rfl
                  have y8 := Sg.out.2.2.2.2.2.cell 8 _ rfl
                  have q8 := Sg.out.2.2.2.2.2.free 8
                  have x9 := Sg.out.1.cell 9 _ rfl
                  have y9 := Sg.out.2.2.2.2.2.cell 9 _ rfl
                  have q9 := Sg.out.2.2.2.2.2.free 9
                  have x10 := Sg.out.1.cell 10 _ rfl
                  have y10 := Sg.out.2.2.2.2.2.cell 10 _ rfl
                  have q10 := Sg.out.2.2.2.2.2.free 10
                  go_region_law ((go_simp; go_at_call 55; refine (HEn.out _ rfl).mono ?_; rintro e w3 ⟨rfl, rfl⟩))
                  all_goals
                    rw [set11 (X := tx 0 z8 0 0) Sg.out.2.2.2.2.2 rfl]
                    go_wp2
                    refine bodyPost_ret (v := .tuple #[.agg (tx 3 [c0, c1, c2, c3, c4, c5, c6, c7] 0 45).toArray, .bool (decide (gp = s.size))]) (fin_tx _ _ N (tx 3 [c0, c1, c2, c3, c4, c5, c6, c7] 0 45) _ rfl rfl (row_tx (Y := tx 3 [c0, c1, c2, c3, c4, c5, c6, c7] 0 45) Sg.out.2.2.2.2.2) rfl) rfl (HF.out _ _ (by rw [hRe.out]) (below_row (hb0h.out.trans BELg.out).drew (Nat.le_refl _) _))
            · have HT := Lib.hid (take_no ⟨#[90, 43, 45]⟩ s (N + 3) (N + 2) gp w3 hs (by omega) hZ S3.out.2.1 S3.out.2.2.1)
              have hRe : Hid (R = (decide (gp = s.size), 3, [b0, b1, b2, b3, b4, b5, b6, b7], 0, 0)) := by
                show _ = _
                rw [hR, rdZ, if_neg (by rw [hlen]; exact hZ), hlen]
              have ct := S3.out.2.2.2.1.cell 0 _ rfl
              have cz := S3.out.1.cell 10 _ rfl
              have fz := S3.out.1.free 10
              have Sz2 : Hid (St (w3.setCell ⟨N + 1, 10, none⟩ (.int .u8 0)) N s gp (tx 3 [b0, b1, b2, b3, b4, b5, b6, b7] 0 0)) := S3.out.put 10 (.int .u8 0)
              have BELz2 : Hid (Below N wc (w3.setCell ⟨N + 1, 10, none⟩ (.int .u8 0))) := (BEL3.out).setCell (by show N ≤ N + 1; omega) _
              clear hZ hR
              generalize hwz : w3.setCell ⟨N + 1, 10, none⟩ (.int .u8 0) = wz2 at *
              have cz2 := Sz2.out.1.cell 10 _ rfl
              go_wp2_with fail
              refine HT.out.mono ?_
              rintro e w3 ⟨rfl, rfl⟩
              try rw [hwz]
              go_wp2_with fail
              try rw [hwz]
              have HEn := Lib.hid (fun W (h : W = wz2.drew) => ended_any s (N + 3) (N + 2) gp W hs (by subst h; exact Sz2.out.2.1) (by subst h; exact Sz2.out.2.2.1))
              have x0 := Sz2.out.1.cell 0 _ rfl
              have y0 := Sz2.out.2.2.2.2.2.cell 0 _ rfl
              have q0 := Sz2.out.2.2.2.2.2.free 0
              have x1 := Sz2.out.1.cell 1 _ rfl
              have y1 := Sz2.out.2.2.2.2.2.cell 1 _ rfl
              have q1 := Sz2.out.2.2.2.2.2.free 1
              have x2 := Sz2.out.1.cell 2 _ rfl
              have y2 := Sz2.out.2.2.2.2.2.cell 2 _ rfl
              have q2 := Sz2.out.2.2.2.2.2.free 2
              have x3 := Sz2.out.1.cell 3 _ rfl
              have y3 := Sz2.out.2.2.2.2.2.cell 3 _ rfl
              have q3 := Sz2.out.2.2.2.2.2.free 3
              have x4 := Sz2.out.1.cell 4 _ rfl
              have y4 := Sz2.out.2.2.2.2.2.cell 4 _ rfl
              have q4 := Sz2.out.2.2.2.2.2.free 4
              have x5 := Sz2.out.1.cell 5 _ rfl
              have y5 := Sz2.out.2.2.2.2.2.cell 5 _ rfl
              have q5 := Sz2.out.2.2.2.2.2.free 5
              have x6 := Sz2.out.1.cell 6 _ rfl
              have y6 := Sz2.out.2.2.2.2.2.cell 6 _ rfl
              have q6 := Sz2.out.2.2.2.2.2.free 6
              have x7 := Sz2.out.1.cell 7 _ rfl
              have y7 := Sz2.out.2.2.2.2.2.cell 7 _ rfl
              have q7 := Sz2.out.2.2.2.2.2.free 7
              have x8 := Sz2.out.1.cell 8 _ rfl
              have y8 := Sz2.out.2.2.2.2.2.cell 8 _ rfl
              have q8 := Sz2.out.2.2.2.2.2.free 8
              have x9 := Sz2.out.1.cell 9 _ rfl
              have y9 := Sz2.out.2.2.2.2.2.cell 9 _ rfl
              have q9 := Sz2.out.2.2.2.2.2.free 9
              have x10 := Sz2.out.1.cell 10 _ rfl
              have y10 := Sz2.out.2.2.2.2.2.cell 10 _ rfl
              have q10 := Sz2.out.2.2.2.2.2.free 10
              go_region_law ((go_simp; go_at_call 55; refine (HEn.out _ rfl).mono ?_; rintro e w3 ⟨rfl, rfl⟩))
              all_goals
                rw [set11 (X := tx 0 z8 0 0) Sz2.out.2.2.2.2.2 rfl]
                go_wp2
                refine bodyPost_ret (v := .tuple #[.agg (tx 3 [b0, b1, b2, b3, b4, b5, b6, b7] 0 0).toArray, .bool (decide (gp = s.size))]) (fin_tx _ _ N (tx 3 [b0, b1, b2, b3, b4, b5, b6, b7] 0 0) _ rfl rfl (row_tx (Y := tx 3 [b0, b1, b2, b3, b4, b5, b6, b7] 0 0) Sz2.out.2.2.2.2.2) rfl) rfl (HF.out _ _ (by rw [hRe.out]) (below_row (hb0h.out.trans BELz2.out).drew (Nat.le_refl _) _))
      · have HT := Lib.hid (take_no ⟨#[84, 32]⟩ s (N + 3) (N + 2) gp w2 hs hgp hT S2.out.2.1 S2.out.2.2.1)
        have hRe : Hid (R = (decide (gp = s.size), 1, [a0, a1, a2, a3, a4, a5, a6, a7], 0, 0)) := by
          show _ = _
          rw [hR]
          rw [if_pos rfl]
          rw [if_neg (by rw [hlen]; exact hT), hlen]
        clear hT hR
        go_wp2_with fail
        refine HT.out.mono ?_
        rintro e w3 ⟨rfl, rfl⟩
        go_wp2_with fail
        have HEn := Lib.hid (fun W (h : W = w2.drew) => ended_any s (N + 3) (N + 2) gp W hs (by subst h; exact S2.out.2.1) (by subst h; exact S2.out.2.2.1))
        have x0 := S2.out.1.cell 0 _ rfl
        have y0 := S2.out.2.2.2.2.2.cell 0 _ rfl
        have q0 := S2.out.2.2.2.2.2.free 0
        have x1 := S2.out.1.cell 1 _ rfl
        have y1 := S2.out.2.2.2.2.2.cell 1 _ rfl
        have q1 := S2.out.2.2.2.2.2.free 1
        have x2 := S2.out.1.cell 2 _ rfl
        have y2 := S2.out.2.2.2.2.2.cell 2 _ rfl
        have q2 := S2.out.2.2.2.2.2.free 2
        have x3 := S2.out.1.cell 3 _ rfl
        have y3 := S2.out.2.2.2.2.2.cell 3 _ rfl
        have q3 := S2.out.2.2.2.2.2.free 3
        have x4 := S2.out.1.cell 4 _ rfl
        have y4 := S2.out.2.2.2.2.2.cell 4 _ rfl
        have q4 := S2.out.2.2.2.2.2.free 4
        have x5 := S2.out.1.cell 5 _ rfl
        have y5 := S2.out.2.2.2.2.2.cell 5 _ rfl
        have q5 := S2.out.2.2.2.2.2.free 5
        have x6 := S2.out.1.cell 6 _ rfl
        have y6 := S2.out.2.2.2.2.2.cell 6 _ rfl
        have q6 := S2.out.2.2.2.2.2.free 6
        have x7 := S2.out.1.cell 7 _ rfl
        have y7 := S2.out.2.2.2.2.2.cell 7 _ rfl
        have q7 := S2.out.2.2.2.2.2.free 7
        have x8 := S2.out.1.cell 8 _ rfl
        have y8 := S2.out.2.2.2.2.2.cell 8 _ rfl
        have q8 := S2.out.2.2.2.2.2.free 8
        have x9 := S2.out.1.cell 9 _ rfl
        have y9 := S2.out.2.2.2.2.2.cell 9 _ rfl
        have q9 := S2.out.2.2.2.2.2.free 9
        have x10 := S2.out.1.cell 10 _ rfl
        have y10 := S2.out.2.2.2.2.2.cell 10 _ rfl
        have q10 := S2.out.2.2.2.2.2.free 10
        go_region_law ((go_simp; go_at_call 55; refine (HEn.out _ rfl).mono ?_; rintro e w3 ⟨rfl, rfl⟩))
        all_goals
          rw [set11 (X := tx 0 z8 0 0) S2.out.2.2.2.2.2 rfl]
          go_wp2
          refine bodyPost_ret (v := .tuple #[.agg (tx 1 [a0, a1, a2, a3, a4, a5, a6, a7] 0 0).toArray, .bool (decide (gp = s.size))]) (fin_tx _ _ N (tx 1 [a0, a1, a2, a3, a4, a5, a6, a7] 0 0) _ rfl rfl (row_tx (Y := tx 1 [a0, a1, a2, a3, a4, a5, a6, a7] 0 0) S2.out.2.2.2.2.2) rfl) rfl (HF.out _ _ (by rw [hRe.out]) (below_row (hb0h.out.trans O2.out.1).drew (Nat.le_refl _) _))
end Go.Proofs.YtckeefjmamggmaaDoor
