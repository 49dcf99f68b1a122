/-
  Helper (plain lists, no program): where the lines of a list of bytes begin.
-/
import Derived.Laws.RangeAny
namespace Go.Proofs.YtmoljdgalonlpabDoor

/-- where the lines behind the first one begin, among the first k bytes -/
def nls (l : List UInt8) : Nat → List Nat
  | 0 => []
  | k + 1 => nls l k ++ (if l[k]? = some 10 then [k + 1] else [])

theorem nls_nl (l : List UInt8) (k : Nat) (h : l[k]? = some 10) : nls l (k + 1) = nls l k ++ [k + 1] := by rw [nls, if_pos h]
theorem nls_no (l : List UInt8) (k : Nat) (h : l[k]? ≠ some 10) : nls l (k + 1) = nls l k := by rw [nls, if_neg h, List.append_nil]

theorem nls_mem (l : List UInt8) (k e : Nat) (h : e ∈ nls l k) : 1 ≤ e ∧ e ≤ k ∧ l[e - 1]? = some 10 := by
  induction k with
  | zero => simp [nls] at h
  | succ k ih =>
    by_cases g : l[k]? = some 10
    · rw [nls_nl l k g, List.mem_append, List.mem_singleton] at h
      rcases h with h | rfl
      · have := ih h; exact ⟨this.1, by omega, this.2.2⟩
      · exact ⟨by omega, by omega, g⟩
    · rw [nls_no l k g] at h
      have := ih h; exact ⟨this.1, by omega, this.2.2⟩

theorem nls_more (l : List UInt8) (k m : Nat) (h : k ≤ m) : ∃ t, nls l m = nls l k ++ t ∧ ∀ e ∈ t, k < e := by
  induction m with
  | zero => obtain rfl : k = 0 := by omega
            exact ⟨[], by simp, by simp⟩
  | succ m ih =>
    by_cases e : k = m + 1
    · subst e; exact ⟨[], by simp, by simp⟩
    · obtain ⟨t, ht, hm⟩ := ih (by omega)
      by_cases g : l[m]? = some 10
      · refine ⟨t ++ [m + 1], by rw [nls_nl l m g, ht, List.append_assoc], fun e he => ?_⟩
        rw [List.mem_append, List.mem_singleton] at he
        rcases he with he | rfl
        · exact hm e he
        · omega
      · exact ⟨t, by rw [nls_no l m g, ht], hm⟩

theorem nls_sorted (l : List UInt8) (k : Nat) : (nls l k).Pairwise (· < ·) := by
  induction k with
  | zero => simp [nls]
  | succ k ih =>
    by_cases g : l[k]? = some 10
    · rw [nls_nl l k g, List.pairwise_append]
      exact ⟨ih, List.pairwise_singleton _ _, fun a ha b hb => by
        rw [List.mem_singleton] at hb; have := nls_mem l k a ha; omega⟩
    · rw [nls_no l k g]; exact ih

/-- the number of line feeds among the first k bytes -/
def cnt (l : List UInt8) (k : Nat) : Nat := (nls l k).length
theorem cnt_le (l : List UInt8) (k : Nat) : cnt l k ≤ k := by
  unfold cnt
  induction k with
  | zero => simp [nls]
  | succ k ih =>
    by_cases g : l[k]? = some 10
    · rw [nls_nl l k g]; simp; omega
    · rw [nls_no l k g]; omega
theorem cnt_mono (l : List UInt8) (k m : Nat) (h : k ≤ m) : cnt l k ≤ cnt l m := by
  obtain ⟨t, ht, _⟩ := nls_more l k m h
  unfold cnt; rw [ht]; simp

/-- where line i begins -/
def beg (l : List UInt8) (i : Nat) : Nat := if i = 0 then 0 else (nls l l.length).getD (i - 1) 0

theorem nls_at (l : List UInt8) (k m i : Nat) (h : k ≤ m) (hi : i < cnt l k) : (nls l m).getD i 0 = (nls l k).getD i 0 := by
  obtain ⟨t, ht, _⟩ := nls_more l k m h
  unfold cnt at hi
  rw [ht, List.getD_eq_getElem?_getD, List.getD_eq_getElem?_getD, List.getElem?_append_left hi]
theorem nls_get_mem (l : List UInt8) (k i : Nat) (hi : i < cnt l k) : (nls l k).getD i 0 ∈ nls l k := by
  unfold cnt at hi
  rw [List.getD_eq_getElem?_getD, List.getElem?_eq_getElem hi]
  exact List.getElem_mem hi
theorem nls_lt (l : List UInt8) (k i j : Nat) (hij : i < j) (hj : j < cnt l k) : (nls l k).getD i 0 < (nls l k).getD j 0 := by
  have := nls_sorted l k
  rw [List.pairwise_iff_getElem] at this
  unfold cnt at hj
  rw [List.getD_eq_getElem?_getD, List.getD_eq_getElem?_getD, List.getElem?_eq_getElem hj, List.getElem?_eq_getElem (by omega : i < (nls l k).length)]
  exact this i j (by omega) hj hij

/-- the line of an offset begins at or before it -/
theorem beg_le (l : List UInt8) (o : Nat) (h : o ≤ l.length) : beg l (cnt l o) ≤ o := by
  unfold beg
  by_cases e : cnt l o = 0
  · rw [if_pos e]; omega
  · rw [if_neg e, nls_at l o l.length _ h (by omega)]
    exact (nls_mem l o _ (nls_get_mem l o _ (by omega))).2.1
/-- behind a line feed a line begins -/
theorem beg_nl (l : List UInt8) (k : Nat) (hk : k < l.length) (h : l[k]? = some 10) : cnt l (k + 1) = cnt l k + 1 ∧ beg l (cnt l (k + 1)) = k + 1 := by
  have e : cnt l (k + 1) = cnt l k + 1 := by unfold cnt; rw [nls_nl l k h]; simp
  refine ⟨e, ?_⟩
  unfold beg
  rw [if_neg (by omega), nls_at l (k + 1) l.length _ (by omega) (by omega), nls_nl l k h, e]
  have : cnt l k + 1 - 1 = (nls l k).length := by unfold cnt; omega
  rw [this]; simp
theorem cnt_no (l : List UInt8) (k : Nat) (h : l[k]? ≠ some 10) : cnt l (k + 1) = cnt l k := by unfold cnt; rw [nls_no l k h]

/-- how many beginnings are at most an offset -/
theorem countP_le (l : List UInt8) (o : Nat) (h : o ≤ l.length) : (nls l l.length).countP (fun e => decide (e ≤ o)) = cnt l o := by
  obtain ⟨t, ht, hm⟩ := nls_more l o l.length h
  rw [ht, List.countP_append]
  have h1 : (nls l o).countP (fun e => decide (e ≤ o)) = (nls l o).length := by
    rw [List.countP_eq_length]; intro a ha; have := nls_mem l o a ha; simp; omega
  have h2 : t.countP (fun e => decide (e ≤ o)) = 0 := by
    rw [List.countP_eq_zero]; intro a ha; have := hm a ha; simp; omega
  rw [h1, h2]; rfl

/-- where line i ends: at its line feed, or at the end -/
def fin (l : List UInt8) (i : Nat) : Nat := if i < cnt l l.length then (nls l l.length).getD i 0 - 1 else l.length

theorem beg_succ (l : List UInt8) (i : Nat) (h : i < cnt l l.length) : beg l (i + 1) = fin l i + 1 := by
  unfold beg fin
  rw [if_neg (by omega), if_pos h]
  have := nls_mem l l.length _ (nls_get_mem l l.length i h)
  show (nls l l.length).getD (i + 1 - 1) 0 = _
  rw [Nat.add_sub_cancel]; omega
theorem fin_nl (l : List UInt8) (i : Nat) (h : i < cnt l l.length) : l[fin l i]? = some 10 ∧ fin l i < l.length := by
  unfold fin
  rw [if_pos h]
  have := nls_mem l l.length _ (nls_get_mem l l.length i h)
  exact ⟨this.2.2, by omega⟩
theorem fin_le (l : List UInt8) (i : Nat) : fin l i ≤ l.length := by
  by_cases h : i < cnt l l.length
  · have := (fin_nl l i h).2; omega
  · unfold fin; rw [if_neg h]; omega
theorem beg_fin (l : List UInt8) (i : Nat) (h : i ≤ cnt l l.length) : beg l i ≤ fin l i := by
  by_cases hi : i < cnt l l.length
  · unfold fin; rw [if_pos hi]
    by_cases e : i = 0
    · subst e; simp [beg]
    · have h1 := nls_lt l l.length (i - 1) i (by omega) hi
      unfold beg; rw [if_neg e]; omega
  · obtain rfl : i = cnt l l.length := by omega
    have : fin l (cnt l l.length) = l.length := by unfold fin; rw [if_neg (by omega)]
    rw [this]; exact beg_le l l.length (Nat.le_refl _)
/-- at the beginning of line i the number of line feeds before it is i -/
theorem cnt_beg (l : List UInt8) (i : Nat) (h : i ≤ cnt l l.length) : cnt l (beg l i) = i := by
  by_cases e : i = 0
  · subst e; simp [beg, cnt, nls]
  · have hb : beg l i = (nls l l.length).getD (i - 1) 0 := by unfold beg; rw [if_neg e]
    have hm := nls_mem l l.length _ (nls_get_mem l l.length (i - 1) (by omega))
    rw [← hb] at hm
    -- the beginnings at most beg l i are the first i ones
    rw [← countP_le l (beg l i) hm.2.1]
    have hlen : cnt l l.length = (nls l l.length).length := rfl
    have key : ∀ j, j < cnt l l.length → (decide ((nls l l.length).getD j 0 ≤ beg l i) = decide (j < i)) := by
      intro j hj
      rw [hb]
      by_cases hji : j < i
      · have : (nls l l.length).getD j 0 ≤ (nls l l.length).getD (i - 1) 0 := by
          by_cases e2 : j = i - 1
          · rw [e2]; omega
          · exact Nat.le_of_lt (nls_lt l l.length j (i - 1) (by omega) (by omega))
        simp only [hji, decide_true, decide_eq_true_eq]; exact this
      · have := nls_lt l l.length (i - 1) j (by omega) hj
        simp only [hji, decide_false, decide_eq_false_iff_not]; omega
    have hsplit : nls l l.length = (nls l l.length).take i ++ (nls l l.length).drop i := (List.take_append_drop i _).symm
    have hg : ∀ j (hj : j < (nls l l.length).length), (nls l l.length)[j] = (nls l l.length).getD j 0 := fun j hj => by
      rw [List.getD_eq_getElem?_getD, List.getElem?_eq_getElem hj]; rfl
    rw [hsplit, List.countP_append]
    have h1 : ((nls l l.length).take i).countP (fun e => decide (e ≤ beg l i)) = ((nls l l.length).take i).length := by
      rw [List.countP_eq_length]; intro a ha
      obtain ⟨j, hj, rfl⟩ := List.getElem_of_mem ha
      rw [List.length_take] at hj
      rw [List.getElem_take, hg j (by omega)]
      have := key j (by omega)
      rw [this]; simp; omega
    have h2 : ((nls l l.length).drop i).countP (fun e => decide (e ≤ beg l i)) = 0 := by
      rw [List.countP_eq_zero]; intro a ha
      obtain ⟨j, hj, rfl⟩ := List.getElem_of_mem ha
      rw [List.length_drop] at hj
      rw [List.getElem_drop, hg (i + j) (by omega)]
      have := key (i + j) (by omega)
      rw [this]; simp
    rw [h1, h2, List.length_take]
    omega
/-- no line feed stands in a line -/
theorem line_no_nl (l : List UInt8) (i k : Nat) (hi : i ≤ cnt l l.length) (h1 : beg l i ≤ k) (h2 : k < fin l i) : l[k]? ≠ some 10 := by
  intro h
  have hk : k < l.length := Nat.lt_of_lt_of_le h2 (fin_le l i)
  have hb := beg_nl l k hk h
  have c1 := cnt_mono l (beg l i) k h1
  rw [cnt_beg l i hi] at c1
  have hkm : k + 1 ∈ nls l l.length := by
    obtain ⟨t, ht, _⟩ := nls_more l (k + 1) l.length (by omega)
    rw [ht, nls_nl l k h]; simp
  by_cases hlt : i < cnt l l.length
  · have c2 := cnt_mono l (k + 1) (fin l i) (by omega)
    have c3 : cnt l (fin l i) ≤ i := by
      have := cnt_beg l (i + 1) (by omega)
      rw [beg_succ l i hlt] at this
      have g := beg_nl l (fin l i) (fin_nl l i hlt).2 (fin_nl l i hlt).1
      omega
    omega
  · have := cnt_mono l (k + 1) l.length (by omega)
    omega
end Go.Proofs.YtmoljdgalonlpabDoor
