/-
  Helper: the walk of the reference's Of.
-/
import Derived.Test.YtmnopohjnbpinabIRefS
import Derived.Test.YtmnopohjnbpinabICalc
import Derived.OneCell
import Derived.Deep.RegionLaw
namespace Go.Proofs.Ytmnopohjnbpinab
open Go.RowKit
set_option linter.unusedVariables false

/-- what stands from a place on, read backwards: the digits, and whether a minus sign was among it -/
def sfR (t : List UInt8) (j : Nat) : List UInt8 := (((t.drop j).filter (fun c => c != 45)).map dig).reverse
def sfN (t : List UInt8) (j : Nat) : Bool := (t.drop j).any (fun c => c == 45)
theorem sf_drop (t : List UInt8) (i : Nat) (h : i < t.length) : t.drop i = t.getD i 0 :: t.drop (i + 1) := by
  rw [List.drop_eq_getElem_cons h, List.getD_eq_getElem?_getD, List.getElem?_eq_getElem h]; rfl
theorem sf_minus (t : List UInt8) (i : Nat) (h : i < t.length) (hc : t.getD i 0 = 45) : sfR t i = sfR t (i + 1) ∧ sfN t i = true := by
  unfold sfR sfN; rw [sf_drop t i h, hc]; exact ⟨rfl, rfl⟩
theorem sf_digit (t : List UInt8) (i : Nat) (h : i < t.length) (hc : t.getD i 0 ≠ 45) : sfR t i = sfR t (i + 1) ++ [dig (t.getD i 0)] ∧ sfN t i = sfN t (i + 1) := by
  unfold sfR sfN; rw [sf_drop t i h]
  constructor
  · rw [List.filter_cons_of_pos (by simpa using hc)]; simp
  · rw [List.any_cons, show (t.getD i 0 == 45) = false by simpa using hc]; rfl
theorem sf_end (t : List UInt8) (j : Nat) (h : t.length ≤ j) : sfR t j = [] ∧ sfN t j = false := by
  unfold sfR sfN; rw [List.drop_eq_nil_of_le h]; exact ⟨rfl, rfl⟩
theorem sf_len (t : List UInt8) (j : Nat) : (sfR t j).length ≤ t.length := by
  unfold sfR
  rw [List.length_reverse, List.length_map]
  exact Nat.le_trans (List.length_filter_le _ _) (by rw [List.length_drop]; omega)
theorem body_filter (n : Nat) : (body 10 n).filter (fun c => c != 45) = body 10 n := by
  rw [List.filter_eq_self]
  intro c hc
  have := body_dig n c hc
  rw [bne_iff_ne]; intro e; rw [e] at this; exact absurd this.1 (by decide)
theorem body_any (n : Nat) : (body 10 n).any (fun c => c == 45) = false := by
  rw [List.any_eq_false]
  intro c hc
  have := body_dig n c hc
  intro e; rw [beq_iff_eq] at e; rw [e] at this; exact absurd this.1 (by decide)
theorem sf_T (z : Int) : sfR (T z) 0 = ((body 10 z.natAbs).map dig).reverse ∧ sfN (T z) 0 = neg z := by
  unfold sfR sfN T Tb neg
  rw [List.drop_zero]
  by_cases h : z < 0
  · rw [if_pos h, decide_eq_true h]
    refine ⟨?_, rfl⟩
    rw [List.singleton_append, List.filter_cons_of_neg (by decide), body_filter]
  · rw [if_neg h, List.nil_append, body_filter, body_any, decide_eq_false h]
    exact ⟨rfl, rfl⟩
theorem T_char (z : Int) : ∀ c ∈ T z, c = 45 ∨ (48 ≤ c.toNat ∧ c.toNat ≤ 57) := by
  intro c hc
  unfold T Tb at hc
  rcases List.mem_append.1 hc with h | h
  · split at h
    · left; simpa using h
    · cases h
  · right; exact body_dig _ c h
theorem T_len (z : Int) (h : Sh z) : (T z).length ≤ 401 := by
  unfold Sh at h
  unfold T Tb body
  rw [List.length_append]
  split <;> split <;> simp <;> omega
/-- a box of two cells -/
def Bx (w : World) (n t : Nat) (v0 v1 : Value) : Prop := w.heap[n]? = some (.cells #[v0, v1] t (0, 0))
theorem Bx.facts {w : World} {n t : Nat} {v0 v1 : Value} (h : Bx w n t v0 v1) : w.cell? ⟨n, 0, none⟩ = some v0 ∧ w.cell? ⟨n, 1, none⟩ = some v1 ∧ w.frozen? ⟨n, 0, none⟩ = false ∧ w.frozen? ⟨n, 1, none⟩ = false := by
  unfold Bx at h
  refine ⟨?_, ?_, ?_, ?_⟩
  · simp [World.cell?, h]
  · simp [World.cell?, h]
  · simp [World.frozen?, h]
  · simp [World.frozen?, h]
theorem Bx.set0 {w : World} {n t : Nat} {v0 v1 : Value} (h : Bx w n t v0 v1) (v : Value) : Bx (w.setCell ⟨n, 0, none⟩ v) n t v v1 := by
  unfold Bx at *
  simp only [World.setCell, Array.getElem?_modify, if_true, h]
  simp
theorem Bx.set1 {w : World} {n t : Nat} {v0 v1 : Value} (h : Bx w n t v0 v1) (v : Value) : Bx (w.setCell ⟨n, 1, none⟩ v) n t v0 v := by
  unfold Bx at *
  simp only [World.setCell, Array.getElem?_modify, if_true, h]
  simp
theorem Bx.spared {w w' : World} {n t B m : Nat} {e : TypeId} {v v0 v1 : Value} {xs : List Value} (h : Bx w n t v0 v1) (hs : Spared w v w') (ho : w.ownsRow B e 1 v m xs) (hn : n < B) : Bx w' n t v0 v1 := by
  unfold Bx at *
  refine (hs.2 n (Array.getElem?_eq_some_iff.1 h).1 (fun g => ?_)).trans h
  have := ho.lt n g.symm
  omega
theorem Bx.far {w : World} {n m t : Nat} {v0 v1 : Value} (h : Bx w n t v0 v1) (hn : n ≠ m) (o : Nat) (v : Value) : Bx (w.setCell ⟨m, o, none⟩ v) n t v0 v1 := by
  unfold Bx at *
  rw [Below.heap_setCell _ _ _ _ hn]; exact h
theorem Bx.new (w : World) (t : Nat) (v0 v1 : Value) : Bx (w.alloc (.cells #[v0, v1] t)) w.heap.size t v0 v1 := heap_alloc_new w _

/-- the same append as a step of a region that draws its order -/
theorem step_append_byte {w : World} {ops : Array Oper} {o : Oper} {a : Act} {K : Act → World → Prop} {Q : Exit → Act → World → Prop} {E : Prop} (hgd : o.guard = none) (s x : Operand) (t : TypeId)
    (ho : o.op = Op.call { callee := Callee.builtin Builtin.append, args := #[s, x], argTypes := #[t, t] }) (hu : Try.prog.underlying t = some (.slice 5))
    (z : Int) (B : Nat) (v : Value) (n : Nat) (l : List UInt8) (c : UInt8) (hs : a.eval s = v) (hx : a.eval x = .slice (some ⟨w.heap.size, 0, none⟩) 1 1)
    (hown : w.ownsRow B 5 1 v n (bytes l)) (w0 : World) (hb : Below B w0 w) (hB : B ≤ w.heap.size) (hn : n ≤ 100000000) (hz : z = (c.toNat : Int))
    (h : ∀ v' w1, w1.ownsRow B 5 1 v' (n + 1) (bytes (l ++ [c])) → Below B w0 w1 → Spared w v w1 → K (a.put o.dst v') w1) :
    if Region.wanted o (yielded ops a.tmps) = true then Oper.wp Try.prog o a (w.alloc (.cells #[.int .u8 z] 5)) K Q else E := by
  have hw : Region.wanted o (yielded ops a.tmps) = true := by simp [Region.wanted, hgd]
  rw [if_pos hw]
  obtain ⟨i0, hi, hz0, hz1, hz2⟩ := info_parts info_u8
  have hlt := hown.lt
  obtain ⟨v', w1, hrun, ho', hgr, _⟩ := run_append_own (P := Try.prog) (w.alloc (.cells #[.int .u8 z] 5)) B t o.type 5 i0 (.int .u8 0) 1 1 hu hi hz0 hz1 hz2 rfl (by decide) v n (bytes l) (hown.alloc _) ⟨w.heap.size, 0, none⟩ 1 1 [.int .u8 (c.toNat : Int)] rfl
    (by
      intro j u hj
      match j, hj with
      | 0, hj => simp at hj; subst hj; rw [hz]; simp [Addr.add])
    (by intro u hu'; simp at hu'; subst hu'; rfl) (by unfold maxLen; omega) (by omega) (by simp; omega)
  unfold Oper.wp
  simp [execOp, ho, resolve, invoke, builtin, hs, hx, hrun, Result.andThen]
  rw [bytes_snoc] at ho'
  refine h v' w1 ho' ((hb.alloc hB _).grown hgr (by simp; omega) (fun k hk => (hlt k hk).1)) ⟨?_, fun k h1 h2 => ?_⟩
  · have := hgr.size
    simp at this; omega
  · rw [hgr.block k (by simp; omega) h2]
    exact Below.heap_alloc _ _ _ h1

set_option maxRecDepth 100000 in
set_option maxHeartbeats 6000000 in
theorem refOf_any (z : Int) (hz : Sh z) (s : ByteArray) (hs : s.data.toList = T z) (w : World) : Calls Try.prog 17 #[.string s] w (NumP z w) := by
  have hlen : s.data.toList.length = s.size := by simp
  have hL := T_len z hz
  have hTc := Lib.hid (T_char z)
  have hTe := sf_T z
  rw [← hs] at hL hTc hTe
  rw [hlen] at hL
  have hszI : (s.size : Int) ≤ 401 := by omega
  have HE := Lib.hid hTe
  have hlenh := Lib.hid hlen
  clear hTe hlen hs
  generalize hPo : NumP z w = Po at *
  have hPoh := Lib.hid hPo
  clear hPo
  go_enter Try.func17, Try.ntmps17
  go_wp2
  have hbx := Bx.new (w.alloc (.cells #[.bool false, .slice none 0 0] 28)) 28 (.bool false) (.slice none 0 0)
  have hsz : (w.alloc (.cells #[.bool false, .slice none 0 0] 28)).heap.size = w.heap.size + 1 := by simp
  rw [hsz] at hbx
  have hbb : Below w.heap.size w ((w.alloc (.cells #[.bool false, .slice none 0 0] 28)).alloc (.cells #[.bool false, .slice none 0 0] 28)) := ((Below.refl _ w).alloc (Nat.le_refl _) _).alloc (by simp) _
  have hbx0 := Bx.new w 28 (.bool false) (.slice none 0 0)
  have hbx0 : Bx ((w.alloc (.cells #[.bool false, .slice none 0 0] 28)).alloc (.cells #[.bool false, .slice none 0 0] 28)) w.heap.size 28 (.bool false) (.slice none 0 0) := by
    unfold Bx at hbx0 ⊢
    rw [Below.heap_alloc _ _ _ (by simp)]; exact hbx0
  have hsz2 : ((w.alloc (.cells #[.bool false, .slice none 0 0] 28)).alloc (.cells #[.bool false, .slice none 0 0] 28)).heap.size = w.heap.size + 1 + 1 := by simp
  generalize (w.alloc (.cells #[.bool false, .slice none 0 0] 28)).alloc (.cells #[.bool false, .slice none 0 0] 28) = wb at *
  clear hsz
  generalize hn1 : w.heap.size + 1 = n at *
  generalize hn0 : w.heap.size = n0 at *
  have hszh := Lib.hid hsz2
  have hnh := Lib.hid hn1
  have hn0h := Lib.hid hn0
  clear hn0 hn1 hsz2
  go_loopw [4] (fun i wr => ∃ (j : Nat) (va : Value), j ≤ s.size ∧ i = .int .i64 ((j : Int) - 1) ∧ Bx wr n 28 (.bool (sfN s.data.toList j)) va ∧ wr.ownsRow (n + 1) 5 1 va (sfR s.data.toList j).length (bytes (sfR s.data.toList j)) ∧ Below n0 w wr ∧ n + 1 ≤ wr.heap.size ∧ Bx wr n0 28 (.bool false) (.slice none 0 0)) (fun i _ => (intOf i + 1).toNat)
  case atStart =>
    obtain ⟨e1, e2⟩ := sf_end s.data.toList s.size (by have := hlenh.out; omega)
    refine ⟨s.size, .slice none 0 0, Nat.le_refl _, rfl, ?_, ?_, hbb, by have := hszh.out; omega, hbx0⟩
    · rw [e2]; exact hbx
    · rw [e1]; exact World.ownsRow_nil _ _ _ _
  case round =>
    clear hbx hbb hbx0
    obtain ⟨j, va, hj, rfl, hbx, hown, hbel, hsw, hrb0⟩ := hrel
    have hrb0h := Lib.hid hrb0
    by_cases hj0 : j = 0
    · subst hj0
      obtain ⟨x0, x1, f0, f1⟩ := hbx.facts
      obtain ⟨e1, e2⟩ := HE.out
      obtain ⟨hv, hdg⟩ := body_back z.natAbs
      rw [← e1] at hv hdg
      rw [e2] at x0
      obtain ⟨va', vc, rfl, _, hvc, hrb⟩ := rb_of_row hown
      have hrl : (sfR s.data.toList 0).length ≤ 401 := Nat.le_trans (sf_len _ _) (by have := hlenh.out; omega)
      have hpos : 0 < (sfR s.data.toList 0).length := by
        rw [e1, List.length_reverse, List.length_map]; exact List.length_pos_iff.2 (body_ne 10 _ (by omega))
      obtain ⟨bb, off, rfl, _, _⟩ := hrb.at 0 hpos
      have hlt := hown.lt bb rfl
      have hR := canon_take _ hdg
      have hT := Lib.hid (refTrim_any (sfR s.data.toList 0) bb off vc wr (by omega) hvc hrb hdg)
      rw [hv] at hT hR
      have hle : (E 10 z.natAbs).length ≤ vc := by
        have : (E 10 z.natAbs).length ≤ (sfR s.data.toList 0).length := by
          have h := congrArg List.length hR
          rw [List.length_take] at h; omega
        omega
      have HFin : Hid (∀ v v0 v1, Po (.returned (.agg #[.bool (neg z), .slice (some ⟨bb, off, none⟩) (E 10 z.natAbs).length vc])) (((wr.setCell ⟨n, 1, none⟩ v).setCell ⟨n0, 0, none⟩ v0).setCell ⟨n0, 1, none⟩ v1)) := Lib.hid fun v v0 v1 => by
        rw [← hPoh.out]
        refine ⟨_, _, rfl, ?_, hle, ?_⟩
        · have h := (((hrb.store n 1 v (fun ad e => by cases e; show bb ≠ n; omega)).store n0 0 v0 (fun ad e => by cases e; show bb ≠ n0; have := hnh.out; omega)).store n0 1 v1 (fun ad e => by cases e; show bb ≠ n0; have := hnh.out; omega)).take (E 10 z.natAbs).length
          rw [← hR] at h; exact h
        · rw [hn0h.out]; exact ((hbel.setCell (p := ⟨n, 1, none⟩) (by show n0 ≤ n; have := hnh.out; omega) _).setCell (p := ⟨n0, 0, none⟩) (Nat.le_refl _) _).setCell (p := ⟨n0, 1, none⟩) (Nat.le_refl _) _
      have hr1 : ∀ v, Bx (wr.setCell ⟨n, 1, none⟩ v) n0 28 (.bool false) (.slice none 0 0) := fun v => hrb0h.out.far (by have := hnh.out; omega) _ _
      have hr1h := Lib.hid hr1
      obtain ⟨r0, r1, r2, r3⟩ := hrb0.facts
      have hnn : n0 ≠ n := by have := hnh.out; omega
      clear e1 e2 hv hdg hR hown hrb hpos hvc hrl HE hTc hle hlt hbel hbx hr1 f0 hrb0
      generalize (sfR s.data.toList 0).length = lr at *
      generalize neg z = bz at *
      generalize (E 10 z.natAbs).length = lz at *
      go_wp2_with fail
      refine hT.out.mono ?_
      rintro e w' ⟨rfl, hw'⟩
      obtain rfl := hw'.symm
      go_wp2
      have q0 : ∀ v, ((w'.setCell ⟨n, 1, none⟩ v).setCell ⟨n0, 0, none⟩ (.bool bz)).cell? ⟨n0, 0, none⟩ = some (.bool bz) := fun v => ((hr1h.out v).set0 (.bool bz)).facts.1
      have q1 : ∀ v v2, (((w'.setCell ⟨n, 1, none⟩ v).setCell ⟨n0, 0, none⟩ (.bool bz)).setCell ⟨n0, 1, none⟩ v2).cell? ⟨n0, 1, none⟩ = some v2 := fun v v2 => (((hr1h.out v).set0 (.bool bz)).set1 v2).facts.2.1
      refine bodyPost_ret (v := .agg #[.bool bz, .slice (some ⟨bb, off, none⟩) lz vc]) (by simp [results, Try.results17, go_sem, q0, q1]) rfl ?_
      exact HFin.out _ _ _
    · obtain ⟨i, rfl⟩ : ∃ i, j = i + 1 := ⟨j - 1, by omega⟩
      rw [show ((i + 1 : Nat) : Int) - 1 = (i : Int) by omega]
      have hi : i < s.size := by omega
      have hgd := getD_byte s i hi
      obtain ⟨x0, x1, f0, f1⟩ := hbx.facts
      have hbxh := Lib.hid hbx
      have hownh := Lib.hid hown
      by_cases hc : s.data.toList.getD i 0 = 45
      · obtain ⟨e1, e2⟩ := sf_minus s.data.toList i (by have := hlenh.out; omega) hc
        have E1 := Lib.hid e1
        have E2 := Lib.hid e2
        rw [hgd] at hc
        have q : ((s[i].toNat : Int) == 45) = true := by rw [hc]; rfl
        clear hgd hc hbx hown e1 e2 f1
        generalize hv0 : sfN s.data.toList (i + 1) = b0 at *
        go_wp2
        go_roundw
        case rel =>
          refine ⟨i, va, by omega, by go_num, ?_, ?_, hbel.setCell (p := ⟨n, 0, none⟩) (by show n0 ≤ n; have := hnh.out; omega) _, by simpa [World.setCell] using hsw, hrb0h.out.far (by have := hnh.out; omega) _ _⟩
          · rw [E2.out]; exact hbxh.out.set0 _
          · rw [E1.out]; exact ownsRow_setCell_below hownh.out (Nat.lt_succ_self n) _
        case measure => simp [intOf]
      · obtain ⟨e1, e2⟩ := sf_digit s.data.toList i (by have := hlenh.out; omega) hc
        have hd := hTc.out (s.data.toList.getD i 0) (by
          rw [List.getD_eq_getElem?_getD, List.getElem?_eq_getElem (by have := hlenh.out; omega)]; exact List.getElem_mem _)
        have hd := hd.resolve_left hc
        have hdd := Lib.hid (fig_dig (s.data.toList.getD i 0) hd.1 hd.2).2
        have E1 := Lib.hid e1
        have E2 := Lib.hid e2
        have hln : (sfR s.data.toList (i + 1)).length ≤ 401 := Nat.le_trans (sf_len _ _) (by have := hlenh.out; omega)
        rw [hgd] at hc hd hdd E1
        have q : ((s[i].toNat : Int) == 45) = false := by
          rw [beq_eq_false_iff_ne]; intro e; exact hc (UInt8.toNat_inj.1 (by have : (45 : UInt8).toNat = 45 := rfl; omega))
        have d1 : (48 : Int) ≤ (s[i].toNat : Int) := by have := hd.1; omega
        have d2 : (s[i].toNat : Int) ≤ 57 := by have := hd.2; omega
        have hzz : Hid (IntKind.u8.wrap ((s[i].toNat : Int) - 48) = ((dig s[i]).toNat : Int)) := by
          show _ = _
          have h1 := hdd.out
          have h2 : (s[i].toNat : Int) - 48 = ((dig s[i]).toNat : Int) := by have := hd.1; omega
          rw [h2]
          have h3 : (dig s[i]).toNat < 256 := UInt8.toNat_lt _
          generalize (dig s[i]).toNat = q at *
          show ((q : Int) % 256) = _
          omega
        clear hgd hc hd hbx hown e1 e2 f0
        generalize hv0 : sfN s.data.toList (i + 1) = b0 at *
        generalize hv1 : sfR s.data.toList (i + 1) = l0 at *
        go_wp2_with fail
        have x1a : (wr.alloc (.cells #[.int .u8 (IntKind.u8.wrap ((s[i].toNat : Int) - 48))] 5)).cell? ⟨n, 1, none⟩ = some va := by
          rw [World.cell?_alloc_past _ _ _ (show n < wr.heap.size by omega)]; exact x1
        go_region_law ((first | refine step_append_byte rfl (.tmp 19) (.tmp 24) 26 rfl Try.underlying26 _ (n + 1) _ l0.length l0 (dig s[i]) rfl rfl hownh.out wr (Below.drew (Below.refl _ _)) hsw (by omega) hzz.out ?_ | refine step_append_byte (w := wr.drew) rfl (.tmp 19) (.tmp 24) 26 rfl Try.underlying26 _ (n + 1) _ l0.length l0 (dig s[i]) rfl rfl hownh.out wr (Below.drew (Below.refl _ _)) hsw (by omega) hzz.out ?_); intro v' w3 hown3 hb3 hsp; obtain ⟨a3, c3, rfl⟩ := World.ownsRow.isSlice hown3; have hbx3 := hbxh.out.spared hsp hownh.out (Nat.lt_succ_self n); obtain ⟨y0, y1, g0, g1⟩ := hbx3.facts)
        all_goals
          have hr3 := Lib.hid (hrb0h.out.spared hsp hownh.out (by have := hnh.out; omega))
          have hw3 : Hid (Below n0 w w3) := hbel.trans (hb3.mono (by have := hnh.out; omega))
          have hsw3 := hb3.size
          have hown3h := Lib.hid hown3
          have hbx3h := Lib.hid hbx3
          clear hsp hown3 hbx3 hb3 x0 x1 x1a f1 g0 hbel
          go_wp2
          go_roundw
          case rel =>
            refine ⟨i, .slice a3 (l0.length + 1) c3, by omega, by go_num, ?_, ?_, hw3.out.setCell (p := ⟨n, 1, none⟩) (by show n0 ≤ n; have := hnh.out; omega) _, by simp [World.setCell]; omega, hr3.out.far (by have := hnh.out; omega) _ _⟩
            · rw [E2.out]; exact hbx3h.out.set1 _
            · rw [E1.out, List.length_append]; exact ownsRow_setCell_below hown3h.out (Nat.lt_succ_self n) _
          case measure => simp [intOf]
end Go.Proofs.Ytmnopohjnbpinab
