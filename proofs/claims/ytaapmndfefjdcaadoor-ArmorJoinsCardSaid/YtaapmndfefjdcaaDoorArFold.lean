/-
  Helper: rows of strings; the walks of Fold, Unfold and the reference's Fold.
-/
import Derived.Test.YtaapmndfefjdcaaDoorArRef
import Derived.Lib.Join
import Derived.Lib.IndexBytes
namespace Go.Proofs.YtaapmndfefjdcaaDoor
open Go.RowKit
set_option linter.unusedVariables false

def strsV (xs : List ByteArray) : List Value := xs.map fun c => Value.string c
theorem strsV_len (l : List ByteArray) : (strsV l).length = l.length := List.length_map ..
theorem strsV_snoc (l : List ByteArray) (c : ByteArray) : strsV l ++ [.string c] = strsV (l ++ [c]) := by unfold strsV; simp
theorem info_str : (Tryd.prog.info? 9).map (fun i => (i.zero, i.size, i.bytes)) = some (some (.string ByteArray.empty), 1, 16) := by kernel_rfl
/-- 'out = append(out, s)' at a row of strings: out is nil or the call's own -/
theorem append_str {w : World} {ops : Array Oper} {rest : List Oper} {o : Oper} {a : Act} {Q : Exit → Act → World → Prop} (hgd : o.guard = none) (s x : Operand) (t : TypeId)
    (ho : o.op = Op.call { callee := Callee.builtin Builtin.append, args := #[s, x], argTypes := #[t, t] }) (hu : Tryd.prog.underlying t = some (.slice 9))
    (c : ByteArray) (B : Nat) (v : Value) (n : Nat) (l : List ByteArray) (hs : a.eval s = v) (hx : a.eval x = .slice (some ⟨w.heap.size, 0, none⟩) 1 1)
    (hown : w.ownsRow B 9 1 v n (strsV l)) (w0 : World) (hb : Below B w0 w) (hB : B ≤ w.heap.size) (hn : n ≤ 100000000)
    (h : ∀ v' w1, w1.ownsRow B 9 1 v' (n + 1) (strsV (l ++ [c])) → Below B w0 w1 → Spared w v w1 → wpList Tryd.prog ops Q rest (a.put o.dst v') w1) :
    wpList Tryd.prog ops Q (o :: rest) a (w.alloc (.cells #[.string c] 9)) := by
  obtain ⟨i0, hi, hz0, hz1, hz2⟩ := info_parts info_str
  have hlt := hown.lt
  refine wpList_append_own _ hgd s x t ho B 9 i0 (.string ByteArray.empty) 1 16 hu hi hz0 hz1 hz2 rfl (by decide) v n (strsV l) hs (hown.alloc _) ⟨w.heap.size, 0, none⟩ 1 1 [.string c] hx rfl ?_ ?_ (by unfold maxLen; omega) (by omega) (by simp; omega) ?_
  · intro j u hj
    match j, hj with
    | 0, hj => simp at hj; subst hj; simp [Addr.add]
  · intro u hu'; simp at hu'; subst hu'; rfl
  · intro v' w1 ho' hgr _
    rw [strsV_snoc] at ho'
    refine h v' w1 ho' ((hb.alloc hB _).grown hgr (by simp; omega) (fun k hk => (hlt k hk).1)) ⟨?_, fun k h1 h2 => ?_⟩
    · have := hgr.size
      simp at this; omega
    · rw [hgr.block k (by simp; omega) h2]
      exact Below.heap_alloc _ _ _ h1
/-- the pieces of a text -/
def pcs (w : Nat) (l : List UInt8) : List (List UInt8) :=
  if h : 0 < w ∧ w < l.length then l.take w :: pcs w (l.drop w) else if l = [] then [] else [l]
termination_by l.length
decreasing_by simp; omega
theorem pcs_more (w : Nat) (l : List UInt8) (h : 0 < w) (h2 : w < l.length) : pcs w l = l.take w :: pcs w (l.drop w) := by rw [pcs, dif_pos ⟨h, h2⟩]
theorem pcs_nil (w : Nat) : pcs w [] = [] := by rw [pcs, dif_neg (by simp), if_pos rfl]
theorem pcs_one (w : Nat) (l : List UInt8) (h2 : l.length ≤ w) (h3 : l ≠ []) : pcs w l = [l] := by rw [pcs, dif_neg (by omega), if_neg h3]
theorem pcs_flat (w : Nat) (hw : 0 < w) (l : List UInt8) : (pcs w l).flatten = l := by
  by_cases h : w < l.length
  · rw [pcs_more w l hw h, List.flatten_cons, pcs_flat w hw (l.drop w), List.take_append_drop]
  · by_cases h2 : l = []
    · rw [h2, pcs_nil]; rfl
    · rw [pcs_one w l (by omega) h2]; simp
termination_by l.length
decreasing_by simp; omega
theorem pcs_len (w : Nat) (hw : 0 < w) (l : List UInt8) : (pcs w l).length ≤ l.length := by
  by_cases h : w < l.length
  · have ih := pcs_len w hw (l.drop w)
    rw [List.length_drop] at ih
    rw [pcs_more w l hw h, List.length_cons]; omega
  · by_cases h2 : l = []
    · rw [h2, pcs_nil]; simp
    · rw [pcs_one w l (by omega) h2]
      have := List.length_pos_iff.2 h2
      simp; omega
termination_by l.length
decreasing_by simp; omega
/-- the pieces come back, with 0 -/
def FoldP (n : Nat) (l : List UInt8) (w : World) (e : Ending) (w' : World) : Prop := ∃ v xs, e = .returned (.tuple #[v, .int .i64 0]) ∧ xs.map (fun c : ByteArray => c.data.toList) = pcs n l ∧ w'.ownsRow w.heap.size 9 1 v xs.length (strsV xs) ∧ Below w.heap.size w w'

set_option maxHeartbeats 2000000 in
theorem fold_err (s : ByteArray) (n : Int) (w : World) (hn : n < 1 ∨ 76 < n) :
    Calls Tryd.prog 19 #[.string s, .int .i64 n] w fun e w' => e = .returned (.tuple #[.slice none 0 0, .int .i64 2]) ∧ w = w' := by
  by_cases h : n < 1
  · clear hn
    go_enter Tryd.func19, Tryd.ntmps19
    go_wp2
    go_ret2
    exact ⟨rfl, rfl⟩
  · have h2 : 76 < n := by omega
    clear hn
    go_enter Tryd.func19, Tryd.ntmps19
    go_wp2
    go_ret2
    exact ⟨rfl, rfl⟩
set_option maxRecDepth 100000 in
set_option maxHeartbeats 4000000 in
theorem fold_ok (s : ByteArray) (n : Nat) (w : World) (h1 : 1 ≤ n) (h2 : n ≤ 76) (hs : s.size ≤ 100000) :
    Calls Tryd.prog 19 #[.string s, .int .i64 (n : Int)] w (FoldP n s.data.toList w) := by
  have HF : Hid (∀ v xs w', xs.map (fun c : ByteArray => c.data.toList) = pcs n s.data.toList → w'.ownsRow w.heap.size 9 1 v xs.length (strsV xs) → Below w.heap.size w w' → FoldP n s.data.toList w (.returned (.tuple #[v, .int .i64 0])) w') := fun v xs w' a b c => ⟨v, xs, rfl, a, b, c⟩
  have HPl : Hid (∀ xs : List ByteArray, ∀ r, xs.map (fun c : ByteArray => c.data.toList) ++ r = pcs n s.data.toList → xs.length ≤ 100000) := fun xs r h => by
    have e := congrArg List.length h
    rw [List.length_append, List.length_map] at e
    have e2 := pcs_len n (by omega) s.data.toList
    have e3 : s.data.toList.length = s.size := by simp
    omega
  generalize hPo : FoldP n s.data.toList w = Po at *
  clear hPo
  have hs0 : Hid (([] : List ByteArray).map (fun c : ByteArray => c.data.toList) ++ pcs n s.data.toList = pcs n s.data.toList) := rfl
  go_enter Tryd.func19, Tryd.ntmps19
  go_wp2
  go_loopw [0, 6] (fun sv v wr => ∃ (t : ByteArray) (xs : List ByteArray), sv = .string t ∧ t.size ≤ s.size ∧ Hid (xs.map (fun c : ByteArray => c.data.toList) ++ pcs n t.data.toList = pcs n s.data.toList) ∧ wr.ownsRow w.heap.size 9 1 v xs.length (strsV xs) ∧ Below w.heap.size w wr) (fun sv _ _ => match sv with | .string t => t.size | _ => 0)
  case atStart => exact ⟨s, [], rfl, Nat.le_refl _, hs0, World.ownsRow_nil _ _ _ _, Below.refl _ _⟩
  case round =>
    obtain ⟨t, xs, rfl, hts, hx, hown, hbel⟩ := hrel
    have hxl := HPl.out xs _ hx.out
    have htl : t.data.toList.length = t.size := by simp
    have hownh := Lib.hid hown
    have hszw := hbel.size
    by_cases hlt : n < t.size
    · have hp := pcs_more n t.data.toList (by omega) (by omega)
      have hx2 : Hid ((xs ++ [t.extract 0 n]).map (fun c : ByteArray => c.data.toList) ++ pcs n (t.extract n t.size).data.toList = pcs n s.data.toList) := by
        show _ = _
        rw [← hx.out, hp, Lib.extract_to_end, List.map_append, List.append_assoc]
        congr 1
        simp
      have hnt : (n : Int) < (t.size : Int) := by omega
      have hnt2 : n ≤ t.size := by omega
      have hnt3 : (n : Int) ≤ (t.size : Int) := by omega
      clear hp hx hown htl
      go_wp2_with (at_builtin; refine append_str rfl (.tmp 20) (.tmp 24) 30 rfl Tryd.underlying30 (t.extract 0 n) w.heap.size _ xs.length xs rfl rfl hownh.out w hbel ?c1 ?c2 ?_)
      case c1 => omega
      case c2 => omega
      intro v' w3 hown3 hb3 hsp
      have hown3h := Lib.hid hown3
      clear hsp hown3
      go_wp2
      refine ⟨⟨t.extract n t.size, xs ++ [t.extract 0 n], rfl, ?_, hx2, ?_, hb3⟩, ?_⟩
      · rw [ByteArray.size_extract]; omega
      · rw [List.length_append]; exact hown3h.out
      · show (t.extract n t.size).size < t.size
        rw [ByteArray.size_extract]; omega
    · have hge : (t.size : Int) ≤ (n : Int) := by omega
      by_cases h0 : t.size = 0
      · have hnil : t.data.toList = [] := List.eq_nil_of_length_eq_zero (by omega)
        have hx2 := hx.out
        rw [hnil, pcs_nil, List.append_nil] at hx2
        have hfin := Lib.hid (HF.out _ xs wr hx2 hown hbel)
        have htn : t.toList = [] := by rw [Lib.toList_data]; exact hnil
        clear hnil hx2 hx hown htl h0
        go_wp2
        exact hfin.out
      · have hne : t.data.toList ≠ [] := fun e => h0 (by rw [← htl, e]; rfl)
        have hx2 : Hid ((xs ++ [t]).map (fun c : ByteArray => c.data.toList) = pcs n s.data.toList) := by
          show _ = _
          rw [← hx.out, pcs_one n _ (by omega) hne, List.map_append]; rfl
        have htn : t.toList.isEmpty = false := by rw [Lib.toList_data]; simpa using hne
        clear hne hx hown htl h0
        go_wp2_with (at_builtin; refine append_str rfl (.tmp 28) (.tmp 30) 30 rfl Tryd.underlying30 t w.heap.size _ xs.length xs rfl rfl hownh.out w hbel ?c1 ?c2 ?_)
        case c1 => omega
        case c2 => omega
        intro v' w3 hown3 hb3 hsp
        have hown3' : w3.ownsRow w.heap.size 9 1 v' (xs ++ [t]).length (strsV (xs ++ [t])) := by rw [List.length_append]; exact hown3
        have hfin := Lib.hid (HF.out v' _ w3 hx2.out hown3' hb3)
        clear hsp hown3 hown3'
        go_wp2
        exact hfin.out

set_option maxHeartbeats 2000000 in
theorem rfold_err (s : ByteArray) (n : Int) (w : World) (hn : n < 1 ∨ 76 < n) :
    Calls Tryd.prog 20 #[.string s, .int .i64 n] w fun e w' => e = .returned (.tuple #[.slice none 0 0, .int .i64 2]) ∧ w = w' := by
  by_cases h : n < 1
  · clear hn
    go_enter Tryd.func20, Tryd.ntmps20
    go_wp2
    go_ret2
    exact ⟨rfl, rfl⟩
  · have h2 : 76 < n := by omega
    clear hn
    go_enter Tryd.func20, Tryd.ntmps20
    go_wp2
    go_ret2
    exact ⟨rfl, rfl⟩
set_option maxRecDepth 100000 in
set_option maxHeartbeats 4000000 in
theorem rfold_ok (s : ByteArray) (n : Nat) (w : World) (h1 : 1 ≤ n) (h2 : n ≤ 76) (hs : s.size ≤ 100000) :
    Calls Tryd.prog 20 #[.string s, .int .i64 (n : Int)] w (FoldP n s.data.toList w) := by
  have HF : Hid (∀ v xs w', xs.map (fun c : ByteArray => c.data.toList) = pcs n s.data.toList → w'.ownsRow w.heap.size 9 1 v xs.length (strsV xs) → Below w.heap.size w w' → FoldP n s.data.toList w (.returned (.tuple #[v, .int .i64 0])) w') := fun v xs w' a b c => ⟨v, xs, rfl, a, b, c⟩
  have HPl : Hid (∀ xs : List ByteArray, ∀ r, xs.map (fun c : ByteArray => c.data.toList) ++ r = pcs n s.data.toList → xs.length ≤ 100000) := fun xs r h => by
    have e := congrArg List.length h
    rw [List.length_append, List.length_map] at e
    have e2 := pcs_len n (by omega) s.data.toList
    have e3 : s.data.toList.length = s.size := by simp
    omega
  generalize hPo : FoldP n s.data.toList w = Po at *
  clear hPo
  have hs0 : Hid (([] : List ByteArray).map (fun c : ByteArray => c.data.toList) ++ pcs n s.data.toList = pcs n s.data.toList) := rfl
  go_enter Tryd.func20, Tryd.ntmps20
  go_wp2
  go_loopw [0, 6] (fun sv v wr => ∃ (t : ByteArray) (xs : List ByteArray), sv = .string t ∧ t.size ≤ s.size ∧ Hid (xs.map (fun c : ByteArray => c.data.toList) ++ pcs n t.data.toList = pcs n s.data.toList) ∧ wr.ownsRow w.heap.size 9 1 v xs.length (strsV xs) ∧ Below w.heap.size w wr) (fun sv _ _ => match sv with | .string t => t.size | _ => 0)
  case atStart => exact ⟨s, [], rfl, Nat.le_refl _, hs0, World.ownsRow_nil _ _ _ _, Below.refl _ _⟩
  case round =>
    obtain ⟨t, xs, rfl, hts, hx, hown, hbel⟩ := hrel
    have hxl := HPl.out xs _ hx.out
    have htl : t.data.toList.length = t.size := by simp
    have hownh := Lib.hid hown
    have hszw := hbel.size
    by_cases hlt : n < t.size
    · have hp := pcs_more n t.data.toList (by omega) (by omega)
      have hx2 : Hid ((xs ++ [t.extract 0 n]).map (fun c : ByteArray => c.data.toList) ++ pcs n (t.extract n t.size).data.toList = pcs n s.data.toList) := by
        show _ = _
        rw [← hx.out, hp, Lib.extract_to_end, List.map_append, List.append_assoc]
        congr 1
        simp
      have hnt : (n : Int) < (t.size : Int) := by omega
      have hnt2 : n ≤ t.size := by omega
      have hnt3 : (n : Int) ≤ (t.size : Int) := by omega
      clear hp hx hown htl
      go_wp2_with (at_builtin; refine append_str rfl (.tmp 17) (.tmp 21) 30 rfl Tryd.underlying30 (t.extract 0 n) w.heap.size _ xs.length xs rfl rfl hownh.out w hbel ?c1 ?c2 ?_)
      case c1 => omega
      case c2 => omega
      intro v' w3 hown3 hb3 hsp
      have hown3h := Lib.hid hown3
      clear hsp hown3
      go_wp2
      refine ⟨⟨t.extract n t.size, xs ++ [t.extract 0 n], rfl, ?_, hx2, ?_, hb3⟩, ?_⟩
      · rw [ByteArray.size_extract]; omega
      · rw [List.length_append]; exact hown3h.out
      · show (t.extract n t.size).size < t.size
        rw [ByteArray.size_extract]; omega
    · have hge : (t.size : Int) ≤ (n : Int) := by omega
      by_cases h0 : t.size = 0
      · have hnil : t.data.toList = [] := List.eq_nil_of_length_eq_zero (by omega)
        have hx2 := hx.out
        rw [hnil, pcs_nil, List.append_nil] at hx2
        have hfin := Lib.hid (HF.out _ xs wr hx2 hown hbel)
        have htn : t.toList = [] := by rw [Lib.toList_data]; exact hnil
        clear hnil hx2 hx hown htl h0
        go_wp2
        exact hfin.out
      · have hne : t.data.toList ≠ [] := fun e => h0 (by rw [← htl, e]; rfl)
        have hx2 : Hid ((xs ++ [t]).map (fun c : ByteArray => c.data.toList) = pcs n s.data.toList) := by
          show _ = _
          rw [← hx.out, pcs_one n _ (by omega) hne, List.map_append]; rfl
        have htn : t.toList.isEmpty = false := by rw [Lib.toList_data]; simpa using hne
        clear hne hx hown htl h0
        go_wp2_with (at_builtin; refine append_str rfl (.tmp 28) (.tmp 30) 30 rfl Tryd.underlying30 t w.heap.size _ xs.length xs rfl rfl hownh.out w hbel ?c1 ?c2 ?_)
        case c1 => omega
        case c2 => omega
        intro v' w3 hown3 hb3 hsp
        have hown3' : w3.ownsRow w.heap.size 9 1 v' (xs ++ [t]).length (strsV (xs ++ [t])) := by rw [List.length_append]; exact hown3
        have hfin := Lib.hid (HF.out v' _ w3 hx2.out hown3' hb3)
        clear hsp hown3 hown3'
        go_wp2
        exact hfin.out

theorem join_flat (xs : List (List UInt8)) : Lib.join xs [] = xs.flatten := by
  cases xs with
  | nil => rfl
  | cons x r =>
    rw [Lib.join_cons]
    unfold Lib.joinTail
    rw [List.flatten_cons]
    congr 2
    exact (List.map_congr_left (fun y _ => List.nil_append y)).trans (List.map_id r)
set_option maxHeartbeats 1000000 in
theorem unfold_cells (bk c : Nat) (xs : List ByteArray) (n : Nat) (hxn : xs.length = n) (w : World) (hcells : ∀ (j : Nat) x, xs[j]? = some x → w.cell? ⟨bk, 0 + j, none⟩ = some (.string x)) (hbk : bk < w.heap.size) (hN : xs.length ≤ 100000) (hcap : xs.length ≤ c)
    (hlen : (xs.map (fun c : ByteArray => c.data.toList)).flatten.length ≤ 1000000) :
    Calls Tryd.prog 21 #[.slice (some ⟨bk, 0, none⟩) n c] w (TxtP (xs.map (fun c : ByteArray => c.data.toList)).flatten w) := by
  subst hxn
  have HJ := Tryd.strings_Join bk 0 c xs ⟨#[]⟩ w hcells hbk (by omega) hcap (by show (Lib.join _ []).length ≤ _; rw [join_flat]; omega)
  have HJ2 : Hid (Calls Tryd.prog 28 #[.slice (some ⟨bk, 0, none⟩) xs.length c, .string ⟨#[]⟩] w (TxtP (xs.map (fun c : ByteArray => c.data.toList)).flatten w)) := by
    refine HJ.mono fun e w' ⟨h1, h2⟩ => ⟨?_, h2⟩
    rw [h1, ← join_flat]
  have HF : Hid (∀ w', Below w.heap.size w w' → TxtP (xs.map (fun c : ByteArray => c.data.toList)).flatten w (.returned (.string ⟨(xs.map (fun c : ByteArray => c.data.toList)).flatten.toArray⟩)) w') := fun w' h => ⟨rfl, h⟩
  clear HJ hcells hlen
  generalize hPo : TxtP (xs.map (fun c : ByteArray => c.data.toList)).flatten w = Po at *
  have hPoh := Lib.hid hPo
  clear hPo
  go_enter Tryd.func21, Tryd.ntmps21
  go_wp2_with fail
  refine HJ2.out.mono ?_
  intro e w1 he
  rw [← hPoh.out] at he
  obtain ⟨rfl, hb1⟩ := he
  have hfin := Lib.hid (HF.out w1 hb1)
  clear hb1
  generalize (xs.map (fun c : ByteArray => c.data.toList)).flatten = r at *
  go_wp2
  exact hfin.out
set_option maxHeartbeats 1000000 in
theorem unfold_none (c : Nat) (w : World) : Calls Tryd.prog 21 #[.slice none 0 c] w (TxtP [] w) := by
  have HJ := Lib.hid (Tryd.strings_Join_none none c ⟨#[]⟩ w)
  go_enter Tryd.func21, Tryd.ntmps21
  go_wp2_with fail
  refine HJ.out.mono ?_
  rintro e w' ⟨rfl, rfl⟩
  go_wp2
  go_ret
  exact ⟨rfl, Below.refl _ _⟩
theorem strsV_get (l : List ByteArray) (i : Nat) (x : ByteArray) (h : l[i]? = some x) : (strsV l)[i]? = some (.string x) := by
  unfold strsV; rw [List.getElem?_map, h]; rfl
/-- the cells behind a slice that reads as a list of strings -/
def Sb (w : World) (a : Option Addr) (l : List ByteArray) : Prop :=
  l = [] ∨ ∃ b, a = some ⟨b, 0, none⟩ ∧ b < w.heap.size ∧ ∀ i x, l[i]? = some x → w.cell? ⟨b, i, none⟩ = some (.string x)
theorem Sb.go {w w' : World} {a : Option Addr} {l : List ByteArray} (h : Sb w a l) (hb : Below w.heap.size w w') : Sb w' a l := by
  rcases h with h | ⟨b, rfl, hlt, hc⟩
  · exact .inl h
  · exact .inr ⟨b, rfl, Nat.lt_of_lt_of_le hlt hb.size, fun i x hi => by rw [hb.cell hlt]; exact hc i x hi⟩
theorem sb_of_row {w : World} {B n : Nat} {v : Value} {l : List ByteArray} (h : w.ownsRow B 9 1 v n (strsV l)) : ∃ a cap, v = .slice a n cap ∧ n = l.length ∧ n ≤ cap ∧ Sb w a l ∧ (n = 0 → l = []) ∧ (a = none → n = 0) ∧ (a = none ∨ ∃ b, a = some ⟨b, 0, none⟩ ∧ b < w.heap.size) := by
  have hlen : l.length = n := by have := h.1; rw [strsV_len, Nat.mul_one] at this; exact this
  rcases h.2 with ⟨rfl, hn⟩ | ⟨g, cap, cur, rfl, _, hg, hn, _⟩
  · have hnil : l = [] := List.eq_nil_of_length_eq_zero (hlen.trans hn)
    subst hn
    exact ⟨none, 0, rfl, hlen.symm, Nat.le_refl _, .inl hnil, fun _ => hnil, fun _ => rfl, .inl rfl⟩
  · refine ⟨_, cap, rfl, hlen.symm, hn, .inr ⟨g, rfl, (Array.getElem?_eq_some_iff.1 hg).1, fun i x hi => ?_⟩, fun h0 => List.eq_nil_of_length_eq_zero (hlen.trans h0), (fun h0 => by cases h0), .inr ⟨g, rfl, (Array.getElem?_eq_some_iff.1 hg).1⟩⟩
    have hc := h.cells (g := g) rfl i _ (strsV_get l i x hi)
    have e : (⟨g, 0, none⟩ : Addr).add i = ⟨g, i, none⟩ := by cases i <;> simp [Addr.add]
    rw [e] at hc; exact hc
theorem unfold_any (a : Option Addr) (n c : Nat) (xs : List ByteArray) (w : World) (hxn : xs.length = n) (hs : Sb w a xs) (ha : a = none → n = 0) (hcap : n ≤ c) (hn0 : xs = [] → a = none ∨ ∃ b, a = some ⟨b, 0, none⟩ ∧ b < w.heap.size) (hN : n ≤ 100000)
    (hlen : (xs.map (fun c : ByteArray => c.data.toList)).flatten.length ≤ 1000000) :
    Calls Tryd.prog 21 #[.slice a n c] w (TxtP (xs.map (fun c : ByteArray => c.data.toList)).flatten w) := by
  rcases hs with rfl | ⟨b, rfl, hlt, hc⟩
  · rcases hn0 rfl with rfl | ⟨b, rfl, hlt⟩
    · have : n = 0 := by simpa using hxn.symm
      subst this
      exact unfold_none c w
    · exact unfold_cells b c [] n hxn w (fun j x h => by cases h) hlt (by simp) (by simp) hlen
  · exact unfold_cells b c xs n hxn w (fun j x h => by rw [Nat.zero_add]; exact hc j x h) hlt (by omega) (by omega) hlen
end Go.Proofs.YtaapmndfefjdcaaDoor
