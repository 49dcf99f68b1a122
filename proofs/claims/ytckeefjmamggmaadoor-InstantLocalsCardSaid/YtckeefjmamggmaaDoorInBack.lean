/-
  Helper: a written text is read back.
-/
import Derived.Test.YtckeefjmamggmaaDoorInAwF
namespace Go.Proofs.YtckeefjmamggmaaDoor
open Go.RowKit
set_option linter.unusedVariables false

/-! ### digits -/
theorem dgt (k : Nat) (h : k < 10) : isD (UInt8.ofNat (48 + k)) = true ∧ (UInt8.ofNat (48 + k)).toNat - 48 = k := by
  have h2 : k = 0 ∨ k = 1 ∨ k = 2 ∨ k = 3 ∨ k = 4 ∨ k = 5 ∨ k = 6 ∨ k = 7 ∨ k = 8 ∨ k = 9 := by omega
  rcases h2 with rfl | rfl | rfl | rfl | rfl | rfl | rfl | rfl | rfl | rfl <;> decide
theorem dec_dig : ∀ (n : Nat), (∀ c ∈ Lib.decDigits n, isD c = true) ∧ numv (Lib.decDigits n) = n := by
  intro n
  induction n using Nat.strongRecOn with
  | ind n ih =>
    rw [dd1]
    split
    · rename_i h
      refine ⟨fun c hc => ?_, ?_⟩
      · rw [List.mem_singleton.1 hc]; exact (dgt n h).1
      · have := (dgt n h).2
        show 10 * 0 + ((UInt8.ofNat (48 + n)).toNat - 48) = n
        omega
    · rename_i h
      obtain ⟨h1, h2⟩ := ih (n / 10) (by omega)
      have h3 := dgt (n % 10) (by omega)
      refine ⟨fun c hc => ?_, ?_⟩
      · rcases List.mem_append.1 hc with hc | hc
        · exact h1 c hc
        · rw [List.mem_singleton.1 hc]; exact h3.1
      · rw [numv_snoc, h2, h3.2]; omega
theorem numv_zeros (k : Nat) (l : List UInt8) : numv (List.replicate k 48 ++ l) = numv l := by
  induction k with
  | zero => rfl
  | succ k ih => rw [List.replicate_succ, List.cons_append, ← ih]; rfl
/-- a padded number: its length, its digits, its value -/
def IsPad (X : List UInt8) (wd n : Nat) : Prop := X.length = wd ∧ (∀ c ∈ X, isD c = true) ∧ numv X = n
theorem pad_is (n wd : Nat) (hw : 0 < wd) (h : n < 10 ^ wd) : IsPad (padL n wd) wd n := by
  have h1 := dec_len wd n hw h
  have h2 := dec_dig n
  refine ⟨?_, fun c hc => ?_, ?_⟩
  · rw [pd, List.length_append, List.length_replicate]; omega
  · rw [pd] at hc
    rcases List.mem_append.1 hc with hc | hc
    · rw [(List.mem_replicate.1 hc).2]; decide
    · exact h2.1 c hc
  · rw [pd, numv_zeros]; exact h2.2

/-! ### a place in a list -/
theorem tw_all : ∀ (X : List UInt8), (∀ c ∈ X, isD c = true) → X.takeWhile isD = X
  | [], _ => rfl
  | c :: X, h => by rw [List.takeWhile_cons, if_pos (h c (by simp)), tw_all X (fun d hd => h d (by simp [hd]))]
theorem twk_stop : ∀ (X Z : List UInt8), (∀ c ∈ X, isD c = true) → (∀ c r, Z = c :: r → isD c = false) → (X ++ Z).takeWhile isD = X
  | [], [], _, _ => rfl
  | [], c :: Z, _, h => by rw [List.nil_append, List.takeWhile_cons, if_neg (by rw [h c Z rfl]; decide)]
  | c :: X, Z, h, hz => by rw [List.cons_append, List.takeWhile_cons, if_pos (h c (by simp)), twk_stop X Z (fun d hd => h d (by simp [hd])) hz]
theorem rn_full (l : List UInt8) (p w : Nat) (X Z : List UInt8) (h : l.drop p = X ++ Z) (hl : X.length = w) (hd : ∀ c ∈ X, isD c = true) : rn l p w = w ∧ (l.drop p).take w = X := by
  have e : (l.drop p).take w = X := by rw [h, ← hl, List.take_left']; rfl
  refine ⟨?_, e⟩
  unfold rn; rw [e, tw_all X hd, hl]
theorem take_tail : ∀ (w : Nat) (X Z : List UInt8), X.length ≤ w → (X ++ Z).take w = X ++ Z.take (w - X.length) := by
  intro w X Z h
  rw [List.take_append, List.take_of_length_le h]
theorem rnk_stop (l : List UInt8) (p w : Nat) (X Z : List UInt8) (h : l.drop p = X ++ Z) (hl : X.length ≤ w) (hd : ∀ c ∈ X, isD c = true) (hz : ∀ c r, Z = c :: r → isD c = false) : rn l p w = X.length := by
  unfold rn
  rw [h, take_tail w X Z hl, twk_stop X _ hd]
  intro c r e
  cases Z with
  | nil => rw [List.take_nil] at e; cases e
  | cons z Z =>
    cases hw : w - X.length with
    | zero => rw [hw] at e; cases e
    | succ k =>
      rw [hw, List.take_succ_cons] at e
      have e2 : z = c := (List.cons.inj e).1
      rw [← e2]; exact hz z Z rfl
theorem at_cons (l : List UInt8) (p : Nat) (c : UInt8) (r : List UInt8) (h : l.drop p = c :: r) : p < l.length ∧ l.getD p 0 = c ∧ l.drop (p + 1) = r := by
  have hp : p < l.length := by
    have := congrArg List.length h
    rw [List.length_drop, List.length_cons] at this; omega
  have e := List.drop_eq_getElem_cons hp
  rw [h] at e
  refine ⟨hp, ?_, (List.cons.inj e).2.symm⟩
  rw [List.getD_eq_getElem?_getD, List.getElem?_eq_getElem hp]
  exact (List.cons.inj e).1.symm
theorem at_app (l : List UInt8) (p w : Nat) (X Z : List UInt8) (h : l.drop p = X ++ Z) (hl : X.length = w) : l.drop (p + w) = Z := by
  rw [← List.drop_drop, h, ← hl, List.drop_left']; rfl
theorem at_le (l : List UInt8) (p w : Nat) (X Z : List UInt8) (h : l.drop p = X ++ Z) (hl : X.length = w) (hw : 0 < w) : p + w ≤ l.length := by
  have := congrArg List.length h
  rw [List.length_drop, List.length_append] at this; omega

/-! ### a group -/
theorem grp_first (l : List UInt8) (mk : UInt8) (first n p : Nat) (f : List Nat) (X Z : List UInt8) (v : Nat) (h : l.drop p = X ++ Z) (hX : IsPad X (wid first) v) :
    grpF l mk first (n + 1) first p f = grpF l mk first n (first + 1) (p + wid first) (f.set first v) := by
  obtain ⟨h1, h2⟩ := rn_full l p (wid first) X Z h hX.1 hX.2.1
  rw [grpF, if_neg (by omega), h1, if_neg (by omega), h2, hX.2.2]
theorem grp_next (l : List UInt8) (mk : UInt8) (first n fd p : Nat) (f : List Nat) (X Z : List UInt8) (v : Nat) (hf : first < fd) (h : l.drop p = mk :: (X ++ Z)) (hX : IsPad X (wid fd) v) :
    grpF l mk first (n + 1) fd p f = grpF l mk first n (fd + 1) (p + 1 + wid fd) (f.set fd v) := by
  obtain ⟨c1, c2, c3⟩ := at_cons l p mk _ h
  obtain ⟨h1, h2⟩ := rn_full l (p + 1) (wid fd) X Z c3 hX.1 hX.2.1
  rw [grpF, if_pos hf, if_pos ⟨c1, c2⟩, h1, if_neg (by omega), h2, hX.2.2]
theorem grp_three (l : List UInt8) (mk : UInt8) (first p : Nat) (f : List Nat) (X1 X2 X3 Z : List UInt8) (v1 v2 v3 : Nat) (h : l.drop p = X1 ++ (mk :: (X2 ++ (mk :: (X3 ++ Z))))) (h1 : IsPad X1 (wid first) v1) (h2 : IsPad X2 (wid (first + 1)) v2) (h3 : IsPad X3 (wid (first + 2)) v3) :
    ∃ q, grpF l mk first 3 first p f = (true, q, ((f.set first v1).set (first + 1) v2).set (first + 2) v3) ∧ l.drop q = Z ∧ q ≤ l.length ∧ q = p + wid first + 1 + wid (first + 1) + 1 + wid (first + 2) := by
  have d1 := at_app l p _ _ _ h h1.1
  have d2 := at_app l _ _ _ _ (at_cons l _ _ _ d1).2.2 h2.1
  have d3 := at_app l _ _ _ _ (at_cons l _ _ _ d2).2.2 h3.1
  have hw := (wid_le (first + 2)).2
  have hle := at_le l _ _ _ _ (at_cons l _ _ _ d2).2.2 h3.1 (by omega)
  refine ⟨_, ?_, d3, hle, rfl⟩
  rw [grp_first l mk first 2 p f X1 _ v1 h h1, grp_next l mk first 1 (first + 1) _ _ X2 _ v2 (by omega) d1 h2, grp_next l mk first 0 (first + 1 + 1) _ _ X3 _ v3 (by omega) d2 h3]
  rfl

/-! ### the end -/
def zoneOf (tl : List UInt8) : Nat := if tl = [] then 0 else 90
theorem rdZ_back (l : List UInt8) (sh : Nat) (f : List Nat) (na p : Nat) (tl : List UInt8) (h : l.drop p = tl) (hp : p ≤ l.length) (ht : tl = [] ∨ tl = [90]) : rdZ l sh f na p = (true, sh, f, na, zoneOf tl) := by
  rcases ht with rfl | rfl
  · have hl : l.length ≤ p := by
      have := congrArg List.length h
      rw [List.length_drop, List.length_nil] at this; omega
    unfold rdZ
    rw [if_neg (by omega)]
    have : p = l.length := by omega
    rw [this, decide_eq_true rfl]; rfl
  · obtain ⟨c1, c2, c3⟩ := at_cons l p _ _ h
    have hl : p + 1 = l.length := by
      have := congrArg List.length h
      rw [List.length_drop, List.length_singleton] at this; omega
    unfold rdZ
    rw [c2, if_pos ⟨c1, by decide⟩, if_pos rfl, decide_eq_true hl]; rfl
theorem trim_split (l : List UInt8) : Lib.trimRightB l 48 ++ List.replicate (l.length - (Lib.trimRightB l 48).length) 48 = l := by
  have hr : ∀ (r : List UInt8), r.takeWhile (fun x => x == 48) = List.replicate (r.length - (r.dropWhile (fun x => x == 48)).length) 48 := by
    intro r
    induction r with
    | nil => rfl
    | cons c r ih =>
      rw [List.takeWhile_cons, List.dropWhile_cons]
      split
      · rename_i hc
        have hc2 : c = 48 := by simpa using hc
        have hle := (List.dropWhile_sublist (fun x : UInt8 => x == 48) (l := r)).length_le
        rw [ih, hc2, List.length_cons, show r.length + 1 - (r.dropWhile (fun x => x == 48)).length = (r.length - (r.dropWhile (fun x => x == 48)).length) + 1 by omega, List.replicate_succ]
      · rw [List.length_cons, Nat.sub_self]; rfl
  have h1 := List.takeWhile_append_dropWhile (p := fun x : UInt8 => x == 48) (l := l.reverse)
  have h2 := congrArg List.reverse h1
  rw [List.reverse_append, List.reverse_reverse, hr, List.reverse_replicate, List.length_reverse] at h2
  unfold Lib.trimRightB
  rw [List.length_reverse]
  exact h2
theorem rdF_back (l : List UInt8) (sh : Nat) (f : List Nat) (na p : Nat) (tl : List UInt8) (h : l.drop p = frL na ++ tl) (hp : p ≤ l.length) (hna : na ≤ 999999999) (ht : tl = [] ∨ tl = [90]) : rdF l sh f p = (true, sh, f, na, zoneOf tl) := by
  by_cases h0 : na = 0
  · subst h0
    have h' : l.drop p = tl := h
    unfold rdF
    rw [if_neg, rdZ_back l sh f 0 p tl h' hp ht]
    rintro ⟨c1, c2⟩
    rcases ht with rfl | rfl
    · have := congrArg List.length h'
      rw [List.length_drop, List.length_nil] at this; omega
    · rw [(at_cons l p _ _ h').2.1] at c2
      exact absurd c2 (by decide)
  · have hpad := pad_is na 9 (by omega) (by omega)
    have hts := trim_split (padL na 9)
    rw [hpad.1] at hts
    have hf : frL na = 46 :: Lib.trimRightB (padL na 9) 48 := if_neg h0
    rw [hf, List.cons_append] at h
    generalize Lib.trimRightB (padL na 9) 48 = T at *
    obtain ⟨c1, c2, c3⟩ := at_cons l p _ _ h
    have hTl : T.length ≤ 9 := by
      have := congrArg List.length hts
      rw [List.length_append, hpad.1] at this; omega
    have hTd : ∀ c ∈ T, isD c = true := fun c hc => hpad.2.1 c (by rw [← hts]; exact List.mem_append.2 (.inl hc))
    have hrn : rn l (p + 1) 9 = T.length := rnk_stop l (p + 1) 9 T tl c3 hTl hTd (fun c r e => by
      rcases ht with rfl | rfl
      · cases e
      · rw [← (List.cons.inj e).1]; decide)
    have hT0 : T.length ≠ 0 := fun hz => by
      have hT : T = [] := List.eq_nil_of_length_eq_zero hz
      rw [hT] at hts
      have h9 := hpad.2.2
      rw [← hts] at h9
      have : numv (List.replicate 9 48) = 0 := by decide
      have h10 : numv ([] ++ List.replicate (9 - ([] : List UInt8).length) 48) = 0 := this
      omega
    have hd := at_app l (p + 1) T.length T tl c3 rfl
    have hle := at_le l (p + 1) T.length T tl c3 rfl (by omega)
    have htk : (l.drop (p + 1)).take T.length = T := by rw [c3, List.take_left']; rfl
    unfold rdF
    rw [c2, if_pos ⟨c1, by decide⟩, hrn, if_neg hT0, htk, hts, hpad.2.2, rdZ_back l sh f na _ tl hd hle ht]
end Go.Proofs.YtckeefjmamggmaaDoor
