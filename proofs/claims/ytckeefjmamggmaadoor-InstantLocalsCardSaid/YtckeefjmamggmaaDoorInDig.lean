/-
  Helper: the walk of the scanner's digits.
-/
import Derived.Test.YtckeefjmamggmaaDoorInScan
namespace Go.Proofs.YtckeefjmamggmaaDoor
open Go.RowKit
set_option linter.unusedVariables false

/-- how many digits stand from a place on, up to a number of them -/
def rn (l : List UInt8) (p most : Nat) : Nat := (((l.drop p).take most).takeWhile isD).length
theorem tw_len : ∀ (l : List UInt8), (l.takeWhile isD).length ≤ l.length
  | [] => Nat.le_refl _
  | c :: l => by
    have := tw_len l
    rw [List.takeWhile_cons]
    split
    · simp only [List.length_cons]; omega
    · simp
theorem rn_le (l : List UInt8) (p most : Nat) : rn l p most ≤ most ∧ rn l p most ≤ l.length - p := by
  have := tw_len ((l.drop p).take most)
  rw [List.length_take, List.length_drop] at this
  unfold rn; omega
theorem tw_at : ∀ (l : List UInt8) (j : Nat), j < (l.takeWhile isD).length → isD (l.getD j 0) = true
  | [], j, h => by simp at h
  | c :: l, j, h => by
    rw [List.takeWhile_cons] at h
    split at h
    · rename_i hc
      cases j with
      | zero => simpa using hc
      | succ j => simpa using tw_at l j (by simpa using h)
    · simp at h
theorem tw_stop : ∀ (l : List UInt8), (l.takeWhile isD).length < l.length → isD (l.getD (l.takeWhile isD).length 0) = false
  | [], h => by simp at h
  | c :: l, h => by
    by_cases hc : isD c = true
    · rw [List.takeWhile_cons_of_pos hc] at h ⊢
      have := tw_stop l (by simpa using h)
      simpa using this
    · rw [List.takeWhile_cons_of_neg hc]
      simpa using hc
theorem getD_dt (l : List UInt8) (p most j : Nat) (h : j < most) : ((l.drop p).take most).getD j 0 = l.getD (p + j) 0 := by
  rw [List.getD_eq_getElem?_getD, List.getD_eq_getElem?_getD, List.getElem?_take_of_lt h, List.getElem?_drop]
theorem rn_dig (l : List UInt8) (p most j : Nat) (h : j < rn l p most) : isD (l.getD (p + j) 0) = true := by
  have h1 := rn_le l p most
  rw [← getD_dt l p most j (by omega)]
  exact tw_at _ j h
theorem rn_stop (l : List UInt8) (p most : Nat) (h1 : rn l p most < most) (h2 : p + rn l p most < l.length) : isD (l.getD (p + rn l p most) 0) = false := by
  rw [← getD_dt l p most _ h1]
  refine tw_stop _ ?_
  rw [List.length_take, List.length_drop]
  unfold rn at h1 h2
  omega
/-- the digits come back; the place behind them is kept -/
def DigP (s : ByteArray) (ba p r : Nat) (w : World) (e : Ending) (w' : World) : Prop := e = .returned (.string (s.extract p (p + r))) ∧ Only ba w w' ∧ Blk w' ba 3 [.int .i64 (p + r : Nat)]
set_option maxRecDepth 100000 in
set_option maxHeartbeats 2000000 in
theorem digits_any (s : ByteArray) (ba bs p most : Nat) (w : World) (hs : s.size ≤ 1000000) (hp : p ≤ s.size) (hm : most ≤ 1000) (hb : Blk w bs 9 [.string s]) (ha : Blk w ba 3 [.int .i64 p]) (hne : bs ≠ ba) :
    Calls Tryd.prog 54 #[.int .i64 (most : Int), .pointer (some ⟨ba, 0, none⟩), .pointer (some ⟨bs, 0, none⟩)] w (DigP s ba p (rn s.data.toList p most) w) := by
  have hlen : s.data.toList.length = s.size := by simp
  have hr := rn_le s.data.toList p most
  have HD : Hid (∀ j (h : j < rn s.data.toList p most), (hj : p + j < s.size) → 48 ≤ (s[p + j]).toNat ∧ (s[p + j]).toNat ≤ 57) := fun j h hj => by
    have := rn_dig s.data.toList p most j h
    rw [ba_getD s (p + j) hj] at this
    exact (isD_iff _).1 this
  have HX : Hid (rn s.data.toList p most < most → (hj : p + rn s.data.toList p most < s.size) → ¬ (48 ≤ (s[p + rn s.data.toList p most]).toNat ∧ (s[p + rn s.data.toList p most]).toNat ≤ 57)) := fun h hj g => by
    have := rn_stop s.data.toList p most h (by omega)
    rw [ba_getD s _ hj] at this
    rw [(isD_iff _).2 g] at this
    cases this
  rw [hlen] at hr
  have hbh := Lib.hid hb
  have hah := Lib.hid ha
  have c1 := hb.cell 0 _ rfl
  have c2 := ha.cell 0 _ rfl
  clear hlen hb ha
  generalize rn s.data.toList p most = r at *
  have HF : Hid (∀ q w', q = p + r → Only ba w w' → Blk w' ba 3 [.int .i64 (q : Nat)] → DigP s ba p r w (.returned (.string (s.extract p q))) w') := fun q w' h1 h2 h3 => by subst h1; exact ⟨rfl, h2, h3⟩
  generalize hPo : DigP s ba p r w = Po at *
  clear hPo
  go_enter Tryd.func54, Tryd.ntmps54
  go_wp2
  clear c1 c2
  obtain ⟨w0, hw0⟩ : ∃ w0 : World, w0 = w := ⟨_, rfl⟩
  have hw0h := Lib.hid hw0
  have hwO : Hid (Only ba w0 w) := by rw [hw0]; exact Only.refl _ _
  rw [← hw0] at hbh
  clear hw0
  go_loopg [7] r (fun gk v wr => ∃ j : Nat, j + gk = r ∧ Hid (Only ba w0 wr) ∧ Hid (Blk wr ba 3 [.int .i64 (p + j : Nat)]))
  case atStart => exact ⟨0, by omega, hwO, hah⟩
  case round =>
    obtain ⟨j, hj, hon, hat⟩ := hrel
    have c1 := (hon.out.blk hbh.out hne).cell 0 _ rfl
    have c2 := hat.out.cell 0 _ rfl
    have f2 := hat.out.free 0
    by_cases hlt : j < r
    · have hpj : p + j < s.size := by omega
      have hdj := HD.out j hlt hpj
      obtain ⟨hd1, hd2⟩ := hdj
      have hO2 : Hid (Only ba w0 (wr.setCell ⟨ba, 0, none⟩ (.int .i64 ((p + (j + 1) : Nat) : Int)))) := hon.out.set 0 _
      have hA2 : Hid (Blk (wr.setCell ⟨ba, 0, none⟩ (.int .i64 ((p + (j + 1) : Nat) : Int))) ba 3 [.int .i64 (p + (j + 1) : Nat)]) := hat.out.set 0 _
      have hjg := Lib.hid hj
      have hg0 : 0 < gk := by omega
      have hg1 := Lib.hid (show j + 1 + (gk - 1) = r by omega)
      rw [show p + (j + 1) = p + j + 1 by omega] at hO2 hA2
      have hpm : ((p + j : Nat) : Int) < (p : Int) + (most : Int) := by omega
      have hps : ((p + j : Nat) : Int) < (s.size : Int) := by omega
      have hk1 : (48 : Int) ≤ ((s[p + j]).toNat : Int) := by omega
      have hk2 : ((s[p + j]).toNat : Int) ≤ 57 := by omega
      have hpl : p + j ≤ 1000000 := by omega
      clear hj hlt hd1 hd2
      generalize hq : p + j = q at *
      have hqh := Lib.hid hq
      clear hq
      go_wp2
      go_roundg (gk - 1)
      case rel => exact ⟨j + 1, hg1.out, hO2, by rw [show p + (j + 1) = q + 1 by have := hqh.out; omega]; exact hA2⟩
      case measure => omega
    · have hjr : j = r := by omega
      subst hjr
      have hple : p ≤ p + j := by omega
      have hpleI : (p : Int) ≤ ((p + j : Nat) : Int) := by omega
      have hqs : p + j ≤ s.size := by omega
      have hqsI : ((p + j : Nat) : Int) ≤ (s.size : Int) := by omega
      have hpl : p + j ≤ 1000000 := by omega
      have hw0' := hw0h.out
      subst hw0'
      have hF := Lib.hid (HF.out (p + j) wr rfl hon.out hat.out)
      by_cases h1 : p + j < s.size
      · have hps : ((p + j : Nat) : Int) < (s.size : Int) := by omega
        by_cases h2 : j < most
        · have hx := HX.out h2 h1
          have hpm : ((p + j : Nat) : Int) < (p : Int) + (most : Int) := by omega
          by_cases h48 : 48 ≤ (s[p + j]).toNat
          · have h57 : (57 : Int) < ((s[p + j]).toNat : Int) := by omega
            have h48i : (48 : Int) ≤ ((s[p + j]).toNat : Int) := by omega
            clear hx h48 hj hlt HD HX
            generalize p + j = q at *
            go_wp2
            exact hF.out
          · have h48i : ((s[p + j]).toNat : Int) < 48 := by omega
            clear hx h48 hj hlt HD HX
            generalize p + j = q at *
            go_wp2
            exact hF.out
        · have hpm : (p : Int) + (most : Int) ≤ ((p + j : Nat) : Int) := by omega
          clear hj hlt HD HX
          generalize p + j = q at *
          go_wp2
          exact hF.out
      · have hps : (s.size : Int) ≤ ((p + j : Nat) : Int) := by omega
        clear hj hlt HD HX
        generalize p + j = q at *
        go_wp2
        exact hF.out
end Go.Proofs.YtckeefjmamggmaaDoor
