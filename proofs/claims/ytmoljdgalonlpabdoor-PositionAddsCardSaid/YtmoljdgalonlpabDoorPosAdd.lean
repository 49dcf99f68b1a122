/-
  Helper (plain): the lines of a source that is appended after a line feed.
-/
import Derived.Test.YtmoljdgalonlpabDoorPosAwake
import Derived.Test.YtmoljdgalonlpabDoorPosLine
namespace Go.Proofs.YtmoljdgalonlpabDoor
open Go.RowKit
set_option linter.unusedVariables false

theorem nls_congr (l l' : List UInt8) (k : Nat) (h : ∀ i, i < k → l[i]? = l'[i]?) : nls l k = nls l' k := by
  induction k with
  | zero => rfl
  | succ k ih =>
    rw [nls, nls, ih (fun i hi => h i (by omega)), h k (by omega)]

section
variable (a b : List UInt8)
/-- the joined list -/
def jn : List UInt8 := a ++ 10 :: b
theorem jn_len : (jn a b).length = a.length + 1 + b.length := by simp [jn]; omega
theorem jn_at (i : Nat) : (jn a b)[a.length + 1 + i]? = b[i]? := by
  unfold jn
  rw [List.getElem?_append_right (by omega), show a.length + 1 + i - a.length = i + 1 from by omega, List.getElem?_cons_succ]
theorem jn_nl : (jn a b)[a.length]? = some 10 := by unfold jn; rw [List.getElem?_append_right (by omega), Nat.sub_self]; rfl
theorem jn_nls (k : Nat) : nls (jn a b) (a.length + 1 + k) = nls (jn a b) (a.length + 1) ++ (nls b k).map (· + (a.length + 1)) := by
  induction k with
  | zero => simp [nls]
  | succ k ih =>
    have e1 : nls (jn a b) (a.length + 1 + (k + 1)) = nls (jn a b) (a.length + 1 + k) ++ (if (jn a b)[a.length + 1 + k]? = some 10 then [a.length + 1 + k + 1] else []) := rfl
    have e2 : nls b (k + 1) = nls b k ++ (if b[k]? = some 10 then [k + 1] else []) := rfl
    rw [e1, e2, jn_at, ih, List.map_append, List.append_assoc]
    congr 2
    by_cases h : b[k]? = some 10
    · rw [if_pos h, if_pos h]; simp; omega
    · rw [if_neg h, if_neg h]; rfl
theorem jn_cnt (k : Nat) : cnt (jn a b) (a.length + 1 + k) = cnt (jn a b) (a.length + 1) + cnt b k := by
  unfold cnt; rw [jn_nls]; simp
/-- the number of lines before the appended source -/
def M : Nat := cnt (jn a b) (a.length + 1)
theorem M_beg : beg (jn a b) (M a b) = a.length + 1 := (beg_nl (jn a b) a.length (by rw [jn_len]; omega) (jn_nl a b)).2
theorem M_pos : 1 ≤ M a b := by have := (beg_nl (jn a b) a.length (by rw [jn_len]; omega) (jn_nl a b)).1; unfold M; omega
theorem M_left : M a b = cnt (a ++ [10]) (a ++ [10]).length := by
  unfold M cnt
  rw [show (a ++ [10] : List UInt8).length = a.length + 1 from by simp]
  congr 1
  refine nls_congr _ _ _ fun i hi => ?_
  unfold jn
  by_cases h : i < a.length
  · rw [List.getElem?_append_left h, List.getElem?_append_left h]
  · obtain rfl : i = a.length := by omega
    rw [List.getElem?_append_right (by omega), List.getElem?_append_right (by omega), Nat.sub_self]; rfl
theorem jn_total : cnt (jn a b) (jn a b).length = M a b + cnt b b.length := by rw [jn_len, jn_cnt]; rfl
theorem jn_get (j : Nat) (hj : j < cnt b b.length) : (nls (jn a b) (jn a b).length).getD (M a b + j) 0 = (nls b b.length).getD j 0 + (a.length + 1) := by
  rw [jn_len, jn_nls, List.getD_eq_getElem?_getD, List.getElem?_append_right (by unfold M cnt; omega)]
  rw [show M a b + j - (nls (jn a b) (a.length + 1)).length = j from by unfold M cnt; omega]
  unfold cnt at hj
  rw [List.getElem?_map, List.getElem?_eq_getElem hj, List.getD_eq_getElem?_getD, List.getElem?_eq_getElem hj]; rfl
theorem jn_beg (i : Nat) (hi : i ≤ cnt b b.length) : beg (jn a b) (M a b + i) = a.length + 1 + beg b i := by
  cases i with
  | zero => rw [Nat.add_zero, M_beg]; simp [beg]
  | succ j =>
    have hM := M_pos a b
    unfold beg
    rw [if_neg (by omega), if_neg (by omega), show M a b + (j + 1) - 1 = M a b + j from by omega, jn_get a b j (by omega), Nat.add_sub_cancel]
    omega
theorem jn_fin (i : Nat) (hi : i ≤ cnt b b.length) : fin (jn a b) (M a b + i) = a.length + 1 + fin b i := by
  unfold fin
  rw [jn_total]
  by_cases h : i < cnt b b.length
  · rw [if_pos (by omega), if_pos h, jn_get a b i h]
    have := nls_mem b b.length _ (nls_get_mem b b.length i h)
    omega
  · rw [if_neg (by omega), if_neg h, jn_len]
end

theorem app_list (x y : ByteArray) : (x ++ y).data.toList = x.data.toList ++ y.data.toList := by simp
/-- the joined source -/
def js (a b : ByteArray) : ByteArray := a ++ ⟨#[10]⟩ ++ b
theorem js_list (a b : ByteArray) : (js a b).data.toList = jn a.data.toList b.data.toList := by
  unfold js jn; rw [app_list, app_list, List.append_assoc]; rfl
theorem js_size (a b : ByteArray) : (js a b).size = a.size + 1 + b.size := by
  rw [← len_eq, js_list, jn_len, len_eq, len_eq]
def Ms (a b : ByteArray) : Nat := M a.data.toList b.data.toList
theorem js_nln (a b : ByteArray) : nln (js a b) = Ms a b + nln b := by
  have := jn_total a.data.toList b.data.toList
  rw [← js_list, len_eq, len_eq] at this
  exact this
theorem al_nln (a b : ByteArray) : nln (a ++ ⟨#[10]⟩) = Ms a b := by
  have := M_left a.data.toList b.data.toList
  unfold nln Ms
  rw [this, ← len_eq, app_list]
theorem al_size (a : ByteArray) : (a ++ (⟨#[10]⟩ : ByteArray)).size = a.size + 1 := by rw [← len_eq, app_list, List.length_append, len_eq]; rfl
theorem js_beg (a b : ByteArray) (i : Nat) (hi : i ≤ nln b) : begS (js a b) (Ms a b + i) = a.size + 1 + begS b i := by
  have := jn_beg a.data.toList b.data.toList i (by rw [len_eq]; exact hi)
  unfold begS Ms; rw [js_list, this, len_eq]
theorem js_fin (a b : ByteArray) (i : Nat) (hi : i ≤ nln b) : finS (js a b) (Ms a b + i) = a.size + 1 + finS b i := by
  have := jn_fin a.data.toList b.data.toList i (by rw [len_eq]; exact hi)
  unfold finS Ms; rw [js_list, this, len_eq]
theorem js_rfin (a b : ByteArray) (i : Nat) (hi : i ≤ nln b) : rfin (js a b) (Ms a b + i) = a.size + 1 + rfin b i := by
  unfold rfin
  rw [js_beg a b i hi, js_fin a b i hi, js_size]
  by_cases h : begS b i < finS b i
  · have e : (js a b).data.toList[a.size + 1 + finS b i - 1]? = b.data.toList[finS b i - 1]? := by
      rw [js_list, show a.size + 1 + finS b i - 1 = a.data.toList.length + 1 + (finS b i - 1) from by rw [len_eq]; omega, jn_at]
    rw [e]
    by_cases g : finS b i < b.size ∧ begS b i < finS b i ∧ b.data.toList[finS b i - 1]? = some 13
    · rw [if_pos g, if_pos ⟨by omega, by omega, g.2.2⟩]; omega
    · rw [if_neg g, if_neg (fun k => g ⟨by omega, by omega, k.2.2⟩)]
  · rw [if_neg (fun k => by omega), if_neg (fun k => h k.2.1)]
theorem js_line (a b : ByteArray) (i : Nat) (hi : i ≤ nln b) : (js a b).extract (begS (js a b) (Ms a b + i)) (rfin (js a b) (Ms a b + i)) = b.extract (begS b i) (rfin b i) := by
  rw [js_beg a b i hi, js_rfin a b i hi, Lib.extract_eq, Lib.extract_eq, js_list]
  have : (jn a.data.toList b.data.toList).drop (a.size + 1 + begS b i) = b.data.toList.drop (begS b i) := by
    unfold jn
    rw [List.drop_append, List.drop_eq_nil_of_le (by rw [len_eq]; omega), len_eq, List.nil_append, show a.size + 1 + begS b i - a.size = begS b i + 1 from by omega, List.drop_succ_cons]
  rw [this, show a.size + 1 + rfin b i - (a.size + 1 + begS b i) = rfin b i - begS b i from by omega]
end Go.Proofs.YtmoljdgalonlpabDoor
