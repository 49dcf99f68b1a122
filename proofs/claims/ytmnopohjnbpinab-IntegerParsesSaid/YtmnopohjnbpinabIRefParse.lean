/-
  Helper: the walks of the reference's base, digit and Parse.
-/
import Derived.Test.YtmnopohjnbpinabIRefScale
import Derived.Test.YtmnopohjnbpinabIRefText
import Derived.Test.YtmnopohjnbpinabIRefOf
namespace Go.Proofs.Ytmnopohjnbpinab
open Go.RowKit
set_option linter.unusedVariables false

set_option maxHeartbeats 1000000 in
theorem rbase_any (b : Int) (w : World) : Calls Try.prog 41 #[.int .i64 b] w fun e w' => e = .returned (.bool (isB b)) ∧ w = w' := by
  by_cases h2 : b = 2
  · subst h2
    have hr : Hid (isB 2 = true) := rfl
    go_enter Try.func41, Try.ntmps41
    go_wp2
    go_ret
    rw [hr.out]; exact ⟨rfl, rfl⟩
  · by_cases h8 : b = 8
    · subst h8
      have hr : Hid (isB 8 = true) := rfl
      go_enter Try.func41, Try.ntmps41
      go_wp2
      go_ret
      rw [hr.out]; exact ⟨rfl, rfl⟩
    · by_cases h10 : b = 10
      · subst h10
        have hr : Hid (isB 10 = true) := rfl
        go_enter Try.func41, Try.ntmps41
        go_wp2
        go_ret
        rw [hr.out]; exact ⟨rfl, rfl⟩
      · by_cases h16 : b = 16
        · subst h16
          have hr : Hid (isB 16 = true) := rfl
          go_enter Try.func41, Try.ntmps41
          go_wp2
          go_ret
          rw [hr.out]; exact ⟨rfl, rfl⟩
        · have q2 : (b == 2) = false := beq_eq_false_iff_ne.2 h2
          have q8 : (b == 8) = false := beq_eq_false_iff_ne.2 h8
          have q10 : (b == 10) = false := beq_eq_false_iff_ne.2 h10
          have q16 : (b == 16) = false := beq_eq_false_iff_ne.2 h16
          have hr : Hid (isB b = false) := by show _ = _; unfold isB; rw [q2, q8, q10, q16]; rfl
          clear h2 h8 h10 h16
          go_enter Try.func41, Try.ntmps41
          go_wp2
          go_ret
          rw [hr.out]; exact ⟨rfl, rfl⟩

def RdgOk (n : Nat) (w : World) (e : Ending) (w' : World) : Prop := e = .returned (.int .i64 (n : Int)) ∧ w = w'
def RdgNo (w : World) (e : Ending) (w' : World) : Prop := e = .returned (.int .i64 99) ∧ w = w'
set_option maxHeartbeats 1000000 in
theorem rdigit_ok (c : UInt8) (w : World) (h : dgc c < 16) : Calls Try.prog 42 #[.int .u8 (c.toNat : Int)] w (RdgOk (dgc c) w) := by
  have h8 : c.toNat < 256 := UInt8.toNat_lt c
  unfold dgc at h ⊢
  generalize c.toNat = x at *
  by_cases h1 : 48 ≤ x ∧ x ≤ 57
  · rw [if_pos h1]
    have g1 := h1.1
    have g2 := h1.2
    have hfin : Hid (∀ z : Int, z = (x : Int) - 48 → RdgOk (x - 48) w (.returned (.int .i64 z)) w) := fun z hz => ⟨by rw [hz, show ((x - 48 : Nat) : Int) = (x : Int) - 48 by omega], rfl⟩
    clear h h1
    generalize RdgOk (x - 48) w = Po at *
    go_enter Try.func42, Try.ntmps42
    go_wp2
    exact hfin.out _ rfl
  · rw [if_neg h1] at h ⊢
    by_cases h2 : 97 ≤ x ∧ x ≤ 102
    · rw [if_pos h2]
      have g1 := h2.1
      have g2 := h2.2
      have hfin : Hid (∀ z : Int, z = (x : Int) - 97 + 10 → RdgOk (x - 87) w (.returned (.int .i64 z)) w) := fun z hz => ⟨by rw [hz, show ((x - 87 : Nat) : Int) = (x : Int) - 97 + 10 by omega], rfl⟩
      clear h h2 h1
      generalize RdgOk (x - 87) w = Po at *
      go_enter Try.func42, Try.ntmps42
      go_wp2
      exact hfin.out _ rfl
    · rw [if_neg h2] at h ⊢
      by_cases h3 : 65 ≤ x ∧ x ≤ 70
      · rw [if_pos h3]
        have g1 := h3.1
        have g2 := h3.2
        have hfin : Hid (∀ z : Int, z = (x : Int) - 65 + 10 → RdgOk (x - 55) w (.returned (.int .i64 z)) w) := fun z hz => ⟨by rw [hz, show ((x - 55 : Nat) : Int) = (x : Int) - 65 + 10 by omega], rfl⟩
        clear h h2 h1 h3
        generalize RdgOk (x - 55) w = Po at *
        go_enter Try.func42, Try.ntmps42
        go_wp2
        exact hfin.out _ rfl
      · rw [if_neg h3] at h; omega
set_option maxHeartbeats 1000000 in
theorem rdigit_no (c : UInt8) (w : World) (h : ¬ dgc c < 16) : Calls Try.prog 42 #[.int .u8 (c.toNat : Int)] w (RdgNo w) := by
  have h8 : c.toNat < 256 := UInt8.toNat_lt c
  unfold dgc at h
  generalize c.toNat = x at *
  have h1 : ¬ (48 ≤ x ∧ x ≤ 57) := fun g => by rw [if_pos g] at h; omega
  rw [if_neg h1] at h
  have h2 : ¬ (97 ≤ x ∧ x ≤ 102) := fun g => by rw [if_pos g] at h; omega
  rw [if_neg h2] at h
  have h3 : ¬ (65 ≤ x ∧ x ≤ 70) := fun g => by rw [if_pos g] at h; omega
  clear h
  have hfin : Hid (RdgNo w (.returned (.int .i64 99)) w) := ⟨rfl, rfl⟩
  generalize RdgNo w = Po at *
  rcases (show x < 48 ∨ (57 < x ∧ x < 65) ∨ (70 < x ∧ x < 97) ∨ 102 < x by omega) with g | ⟨g, g'⟩ | ⟨g, g'⟩ | g
  all_goals
    clear h1 h2 h3
    go_enter Try.func42, Try.ntmps42
    go_wp2
    exact hfin.out

/-- an error comes back, beside a number that nobody reads -/
def RzP (k : Int) (w : World) (e : Ending) (w' : World) : Prop := e = .returned (.tuple #[.agg #[.bool false, .slice none 0 0], .int .i64 k]) ∧ Below w.heap.size w w'
def RnP (z : Int) (w : World) (e : Ending) (w' : World) : Prop := ∃ a cap, e = .returned (.tuple #[.agg #[.bool (neg z), .slice a (E 10 z.natAbs).length cap], .int .i64 0]) ∧ Rb w' a (E 10 z.natAbs) ∧ Below w.heap.size w w'
def RpP (l : List UInt8) (b : Nat) (w : World) (e : Ending) (w' : World) : Prop :=
  ((prest l = [] ∨ ∃ i, i < (prest l).length ∧ b ≤ dgc ((prest l).getD i 0)) → RzP 3 w e w') ∧
  ((prest l ≠ [] ∧ ∀ i, i < (prest l).length → dgc ((prest l).getD i 0) < b) → (Sh (zi (pneg l) (vm b (pdig (prest l)))) → RnP (zi (pneg l) (vm b (pdig (prest l)))) w e w') ∧ (¬ Sh (zi (pneg l) (vm b (pdig (prest l)))) → RzP 6 w e w'))

/-- where the digits of a text begin -/
theorem prest_cases (s : ByteArray) : (s.size = 0 ∧ prest s.data.toList = []) ∨ ∃ (h : 0 < s.size) (A : Nat), (A + (prest s.data.toList).length = s.size ∧ ∀ k, (prest s.data.toList).getD k 0 = s.data.toList.getD (A + k) 0) ∧
    ((A = 1 ∧ s[0] = 45 ∧ pneg s.data.toList = true) ∨ (A = 1 ∧ s[0] = 43 ∧ pneg s.data.toList = false) ∨ (A = 0 ∧ s[0] ≠ 45 ∧ s[0] ≠ 43 ∧ pneg s.data.toList = false)) := by
  by_cases h0 : s.size = 0
  · left
    refine ⟨h0, ?_⟩
    have : s.data.toList = [] := List.length_eq_zero_iff.1 ((by simp : s.data.toList.length = s.size).trans h0)
    rw [this]; rfl
  · right
    have hp : 0 < s.size := by omega
    have hlen : s.data.toList.length = s.size := by simp
    obtain ⟨c, t, ht⟩ : ∃ c t, s.data.toList = c :: t := by
      cases h : s.data.toList with
      | nil => rw [h] at hlen; simp at hlen; omega
      | cons c t => exact ⟨c, t, rfl⟩
    have hc : s[0] = c := by
      have := getD_byte s 0 hp
      rw [ht] at this; exact this.symm
    have hs : s.size = t.length + 1 := by rw [← hlen, ht]; rfl
    refine ⟨hp, ?_⟩
    rw [hc, ht]
    by_cases h45 : c = 45
    · refine ⟨1, ⟨?_, ?_⟩, .inl ⟨rfl, h45, ?_⟩⟩
      · unfold prest; rw [if_pos (by rw [h45]; rfl)]; simp; omega
      · intro k; unfold prest; rw [if_pos (by rw [h45]; rfl), Nat.add_comm]; rfl
      · unfold pneg; rw [h45]; rfl
    · by_cases h43 : c = 43
      · refine ⟨1, ⟨?_, ?_⟩, .inr (.inl ⟨rfl, h43, ?_⟩)⟩
        · unfold prest; rw [if_neg (by rw [h43]; simp), if_pos (by rw [h43]; rfl)]; simp; omega
        · intro k; unfold prest; rw [if_neg (by rw [h43]; simp), if_pos (by rw [h43]; rfl), Nat.add_comm]; rfl
        · unfold pneg; rw [h43]; simp
      · refine ⟨0, ⟨?_, ?_⟩, .inr (.inr ⟨rfl, h45, h43, ?_⟩)⟩
        · unfold prest; rw [if_neg (by simpa using h45), if_neg (by simpa using h43)]; simp; omega
        · intro k; unfold prest; rw [if_neg (by simpa using h45), if_neg (by simpa using h43), Nat.zero_add]
        · unfold pneg; simpa using h45
theorem pdig_step (l : List UInt8) (b k : Nat) (hk : k < l.length) (c : UInt8) (hc : l.getD k 0 = c) : vm b ((pdig l).take (k + 1)) = b * vm b ((pdig l).take k) + dgc c := by
  have hl : (pdig l).length = l.length := by unfold pdig; simp
  rw [vm_take b _ k (by omega)]
  congr 1
  unfold pdig
  rw [List.getD_eq_getElem?_getD, List.getElem?_map]
  rw [List.getD_eq_getElem?_getD] at hc
  rw [List.getElem?_eq_getElem hk] at hc ⊢
  simp only [Option.getD_some, Option.map_some] at hc ⊢
  rw [hc, toNat_ofNat _ (by unfold dgc; have := UInt8.toNat_lt c; split <;> (try split) <;> (try split) <;> omega)]

set_option maxRecDepth 100000 in
set_option maxHeartbeats 1000000 in
theorem rparse_nob (s : ByteArray) (b : Int) (hB : isB b = false) (w : World) : Calls Try.prog 10 #[.string s, .int .i64 b] w (RzP 1 w) := by
  have HI := Lib.hid (fun W => rbase_any b W)
  have HF : Hid (∀ o, RzP 1 w (.returned (.tuple #[.agg #[.bool false, .slice none 0 0], .int .i64 1])) (w.alloc o)) := Lib.hid fun o => ⟨rfl, (Below.refl _ w).alloc (Nat.le_refl _) o⟩
  have hi : Hid (isB b = false) := Lib.hid hB
  clear hB
  generalize RzP 1 w = Po at *
  go_enter Try.func10, Try.ntmps10
  go_wp2_with fail
  refine (HI.out _).mono ?_
  rintro e w0 ⟨rfl, hw⟩
  obtain rfl := hw.symm
  rw [hi.out]
  go_wp2
  refine bodyPost_ret (v := .tuple #[.agg #[.bool false, .slice none 0 0], .int .i64 1]) (by simp [results, Try.results10, go_sem]) rfl ?_
  exact HF.out _

/-- the box of the result, and what was there before -/
def Rq (n0 : Nat) (w wr : World) : Prop := Bx wr n0 28 (.bool false) (.slice none 0 0) ∧ Below n0 w wr
theorem Rq.stored {n0 : Nat} {w wr : World} (h : Rq n0 w wr) (v0 v1 : Value) : Bx ((wr.setCell ⟨n0, 0, none⟩ v0).setCell ⟨n0, 1, none⟩ v1) n0 28 v0 v1 ∧ Below n0 w ((wr.setCell ⟨n0, 0, none⟩ v0).setCell ⟨n0, 1, none⟩ v1) :=
  ⟨(h.1.set0 v0).set1 v1, (h.2.setCell (p := ⟨n0, 0, none⟩) (Nat.le_refl _) v0).setCell (p := ⟨n0, 1, none⟩) (Nat.le_refl _) v1⟩
theorem Rq.go {n0 : Nat} {w wr w2 : World} (h : Rq n0 w wr) (hb : Below wr.heap.size wr w2) : Rq n0 w w2 := by
  have hlt : n0 < wr.heap.size := by
    have := h.1
    unfold Bx at this
    exact (Array.getElem?_eq_some_iff.1 this).1
  refine ⟨?_, h.2.trans (hb.mono (by omega))⟩
  have := h.1
  unfold Bx at this ⊢
  rw [hb.block n0 hlt]; exact this

set_option maxRecDepth 100000 in
set_option maxHeartbeats 8000000 in
theorem rparse_any (s : ByteArray) (b : Nat) (hB : isB (b : Int) = true) (hb : 2 ≤ b) (hb2 : b ≤ 16) (w : World) (hs : s.size ≤ 1500) : Calls Try.prog 10 #[.string s, .int .i64 (b : Int)] w (RpP s.data.toList b w) := by
  have HI := Lib.hid (rbase_any (b : Int))
  rw [hB] at HI
  have hcases := prest_cases s
  -- what comes back, in the four ways
  have HEmp : Hid (prest s.data.toList = [] → ∀ o, RpP s.data.toList b w (.returned (.tuple #[.agg #[.bool false, .slice none 0 0], .int .i64 3])) (w.alloc o)) := Lib.hid fun h o =>
    ⟨fun _ => ⟨rfl, (Below.refl _ w).alloc (Nat.le_refl _) o⟩, fun g => absurd h g.1⟩
  have HBad : Hid (∀ i, i < (prest s.data.toList).length → b ≤ dgc ((prest s.data.toList).getD i 0) → ∀ w', Below w.heap.size w w' → RpP s.data.toList b w (.returned (.tuple #[.agg #[.bool false, .slice none 0 0], .int .i64 3])) w') := Lib.hid fun i hi hd w' hw =>
    ⟨fun _ => ⟨rfl, hw⟩, fun g => absurd (g.2 i hi) (by omega)⟩
  have HGood : Hid ((∀ i, i < (prest s.data.toList).length → dgc ((prest s.data.toList).getD i 0) < b) → ∀ m, m = vm b (pdig (prest s.data.toList)) → (Sh (zi (pneg s.data.toList) m) → ∀ a c w', Rb w' a (E 10 (zi (pneg s.data.toList) m).natAbs) → Below w.heap.size w w' → RpP s.data.toList b w (.returned (.tuple #[.agg #[.bool (neg (zi (pneg s.data.toList) m)), .slice a (E 10 (zi (pneg s.data.toList) m).natAbs).length c], .int .i64 0])) w') ∧
      (¬ Sh (zi (pneg s.data.toList) m) → ∀ w', Below w.heap.size w w' → RpP s.data.toList b w (.returned (.tuple #[.agg #[.bool false, .slice none 0 0], .int .i64 6])) w') ∧ prest s.data.toList ≠ [] ∨ prest s.data.toList = []) := Lib.hid fun hg m hm => by
    by_cases hne : prest s.data.toList = []
    · exact .inr hne
    · subst hm
      refine .inl ⟨fun hsh a c w' hr hw => ⟨fun g => ?_, fun _ => ⟨fun _ => ⟨a, c, rfl, hr, hw⟩, fun g => absurd hsh g⟩⟩, fun hsh w' hw => ⟨fun g => ?_, fun _ => ⟨fun g => absurd g hsh, fun _ => ⟨rfl, hw⟩⟩⟩, hne⟩
      · rcases g with g | ⟨i, hi, hd⟩
        · exact absurd g hne
        · have := hg i hi; omega
      · rcases g with g | ⟨i, hi, hd⟩
        · exact absurd g hne
        · have := hg i hi; omega
  generalize hPo : RpP s.data.toList b w = Po at *
  clear hPo hB
  have hbx0 : Rq w.heap.size w (w.alloc (.cells #[.bool false, .slice none 0 0] 28)) := ⟨Bx.new w _ _ _, (Below.refl _ w).alloc (Nat.le_refl _) _⟩
  have HQ0 := Lib.hid hbx0
  clear hbx0
  rcases hcases with ⟨h0, hnil⟩ | ⟨hp, A, ⟨hA, hAt⟩, hc⟩
  · have hfin := Lib.hid (HEmp.out hnil)
    have hq : ((s.size : Int) == 0) = true := by rw [h0]; rfl
    have hq2 : ((0 : Int) == (s.size : Int)) = true := by rw [h0]; rfl
    have hq3 : decide ((0 : Int) < (s.size : Int)) = false := by rw [h0]; rfl
    clear HEmp HBad HGood HQ0 hnil
    go_enter Try.func10, Try.ntmps10
    go_wp2_with fail
    refine (HI.out _).mono ?_
    rintro e w0 ⟨rfl, hw⟩
    obtain rfl := hw.symm
    clear h0
    go_wp2
    all_goals
      refine bodyPost_ret (v := .tuple #[.agg #[.bool false, .slice none 0 0], .int .i64 3]) (by simp [results, Try.results10, go_sem]) rfl ?_
      exact hfin.out _
  · have hne : prest s.data.toList ≠ [] ∨ prest s.data.toList = [] := by by_cases h : prest s.data.toList = [] <;> simp [h]
    have HSTEP := Lib.hid (fun k hk c hc => pdig_step (prest s.data.toList) b k hk c hc)
    have hfull : Hid (∀ k, (prest s.data.toList).length ≤ k → (pdig (prest s.data.toList)).take k = pdig (prest s.data.toList)) := Lib.hid fun k hk => List.take_of_length_le (by unfold pdig; simpa using hk)
    have HAT := Lib.hid hAt
    have HGB := Lib.hid (fun i (hi : i < s.size) => getD_byte s i hi)
    clear hAt
    generalize hPR : prest s.data.toList = l at *
    generalize hPD : pdig l = pd at *
    generalize hPN : pneg s.data.toList = pn at *
    generalize s.data.toList = sl at *
    clear hPR hPN
    generalize hll : l.length = ll at *
    have hllh := Lib.hid hll
    clear hll
    rcases hc with ⟨rfl, hc0, hpn⟩ | ⟨rfl, hc0, hpn⟩ | ⟨rfl, hc0, hc1, hpn⟩
    · subst hpn
      have q45 : ((s[0].toNat : Int) == 45) = true := by rw [hc0]; rfl
      clear hc0
      have hszi : (0 : Int) < s.size := by omega
      by_cases hl0 : ll = 0
      · have hsz1 : s.size = 1 := by omega
        have hfin := Lib.hid (HEmp.out (List.length_eq_zero_iff.1 (hllh.out.trans hl0)))
        have q1 : ((1 : Int) == (s.size : Int)) = true := by rw [hsz1]; rfl
        clear HEmp HBad HGood HQ0 HSTEP hfull HAT HGB hA hl0 hPD hsz1 hne
        go_enter Try.func10, Try.ntmps10
        go_wp2_with fail
        refine (HI.out _).mono ?_
        rintro e w0 ⟨rfl, hw⟩
        obtain rfl := hw.symm
        go_wp2
        refine bodyPost_ret (v := .tuple #[.agg #[.bool false, .slice none 0 0], .int .i64 3]) (by simp [results, Try.results10, go_sem]) rfl ?_
        exact hfin.out _
      have hl0 : 0 < ll := by omega
      have q1 : ((1 : Int) == (s.size : Int)) = false := by rw [beq_eq_false_iff_ne]; omega
      have HGood2 : Hid ((∀ i, i < ll → dgc (l.getD i 0) < b) → ∀ m, m = vm b pd → (Sh (zi true m) → ∀ a c w', Rb w' a (E 10 (zi true m).natAbs) → Below w.heap.size w w' → Po (.returned (.tuple #[.agg #[.bool (neg (zi true m)), .slice a (E 10 (zi true m).natAbs).length c], .int .i64 0])) w') ∧ (¬ Sh (zi true m) → ∀ w', Below w.heap.size w w' → Po (.returned (.tuple #[.agg #[.bool false, .slice none 0 0], .int .i64 6])) w')) := Lib.hid fun h m hm => by
        rcases HGood.out h m hm with g | g
        · exact ⟨g.1, g.2.1⟩
        · exfalso; have := hllh.out; rw [g] at this; simp at this; omega
      clear HEmp HGood hPD hne
      go_enter Try.func10, Try.ntmps10
      go_wp2_with fail
      refine (HI.out _).mono ?_
      rintro e w0 ⟨rfl, hw⟩
      obtain rfl := hw.symm
      go_wp2_with fail
      go_loopw [7, 8] (fun v i wr => ∃ (j m : Nat) (ra : Option Addr) (rc : Nat), 1 ≤ j ∧ j ≤ s.size ∧ i = .int .i64 j ∧ v = .slice ra (E 10 m).length rc ∧ Hid (m = vm b (pd.take (j - 1)) ∧ ∀ i, i < j - 1 → dgc (l.getD i 0) < b) ∧ (E 10 m).length ≤ 4 * (j - 1) ∧ (E 10 m).length ≤ rc ∧ Hid (Rb wr ra (E 10 m)) ∧ Hid (Rq w.heap.size w wr)) (fun _ i _ => s.size - (intOf i).toNat)
      case atStart => exact ⟨1, 0, none, 0, Nat.le_refl _, by omega, rfl, rfl, Lib.hid ⟨by simp [vm], fun i hi => by omega⟩, Nat.zero_le _, Nat.zero_le _, Lib.hid (Rb.nil _ _), HQ0⟩
      case round =>
        clear HQ0
        obtain ⟨j, m, ra, rc, hjA, hj, rfl, rfl, HS, hlen, hrc, hrb, hq⟩ := hrel
        by_cases hlt : j < s.size
        · have hlj : l.getD (j - 1) 0 = s[j] := by rw [HAT.out, show 1 + (j - 1) = j by omega]; exact HGB.out j hlt
          have hji : (j : Int) < s.size := by omega
          have hj0i : (0 : Int) ≤ j := by omega
          by_cases hd : dgc s[j] < b
          · have HD := Lib.hid (fun W => rdigit_ok s[j] W (by omega))
            have hst := HSTEP.out (j - 1) (by omega) s[j] hlj
            have HM : Hid (b * m + dgc s[j] = vm b (pd.take (j + 1 - 1)) ∧ ∀ i, i < j + 1 - 1 → dgc (l.getD i 0) < b) := Lib.hid ⟨by rw [show j + 1 - 1 = j - 1 + 1 by omega, hst, ← HS.out.1], fun i hi => by
              by_cases e : i = j - 1
              · rw [e, hlj]; exact hd
              · exact HS.out.2 i (by omega)⟩
            have HSC := Lib.hid (fun W (h : Below wr.heap.size wr W) => refScale_any m b (dgc s[j]) (by omega) (by omega) (by omega) ra rc W (hrb.out.go h) (by omega))
            have hl2 := Lib.hid (len_scaled m b (dgc s[j]) (4 * (j - 1)) (by omega) (by omega) hlen)
            have hdi : ((dgc s[j] : Nat) : Int) < (b : Int) := by omega
            clear hst hlj HSTEP hfull HAT HGB HBad HGood2 HS hrb hlen hrc
            generalize dgc s[j] = d at *
            generalize (E 10 m).length = lm at *
            go_wp2_with fail
            refine (HD.out _).mono ?_
            rintro e w1 ⟨rfl, hw1⟩
            obtain rfl := hw1.symm
            go_wp2_with fail
            refine (HSC.out _ (Below.refl _ _)).mono ?_
            rintro e w2 ⟨na, nc, rfl, hr2, hc2, hb2'⟩
            have hq2 := Lib.hid (hq.out.go hb2')
            have hr2h := Lib.hid hr2
            clear hr2 hb2' HSC HD
            go_wp2_with fail
            go_roundw
            case rel => exact ⟨j + 1, b * m + d, na, nc, by omega, by omega, by go_num, rfl, HM, by have := hl2.out; omega, hc2, hr2h, hq2⟩
            case measure => simp [intOf]; omega
          · obtain ⟨v, hv, HD⟩ : ∃ v : Int, (b : Int) ≤ v ∧ Hid (∀ W, Calls Try.prog 42 #[.int .u8 (s[j].toNat : Int)] W fun e w' => e = .returned (.int .i64 v) ∧ W = w') := by
              by_cases h16 : dgc s[j] < 16
              · exact ⟨((dgc s[j] : Nat) : Int), by omega, Lib.hid fun W => rdigit_ok s[j] W h16⟩
              · exact ⟨99, by omega, Lib.hid fun W => rdigit_no s[j] W h16⟩
            have hfin := Lib.hid (HBad.out (j - 1) (by omega) (by rw [hlj]; omega))
            obtain ⟨x0, x1, f0, f1⟩ := hq.out.1.facts
            clear hlj hd HSTEP hfull HAT HGB HBad HGood2 HS hrb hlen hrc
            generalize (E 10 m).length = lm at *
            go_wp2_with fail
            refine (HD.out _).mono ?_
            rintro e w1 ⟨rfl, hw1⟩
            obtain rfl := hw1.symm
            go_wp2
            have q2 := (hq.out.stored (.bool false) (.slice none 0 0)).1.facts
            refine bodyPost_ret (v := .tuple #[.agg #[.bool false, .slice none 0 0], .int .i64 3]) (by simp [results, Try.results10, go_sem, q2.1, q2.2.1]) rfl ?_
            exact hfin.out _ (hq.out.stored _ _).2
        · have hje : j = s.size := by omega
          have hjk : j - 1 = ll := by omega
          obtain ⟨hm, hall⟩ := HS.out
          rw [hjk, hfull.out ll (by have := hllh.out; omega)] at hm
          rw [hjk] at hall
          have HG3 := Lib.hid (HGood2.out hall m hm)
          have HSG := Lib.hid (fun W (h : Below wr.heap.size wr W) => refSigned_any true (E 10 m) ra rc W (by omega) hrc (hrb.out.go h) (dg_E 10 m (by omega) (by omega)))
          rw [vb_E 10 m (by omega) (by omega)] at HSG
          have hjd : decide ((j : Int) < s.size) = false := decide_eq_false (by omega)
          clear hm hall hjk HSTEP hfull HAT HGB HBad HGood2 HS hrb hrc
          have hjn : (s.size : Int) ≤ j := by omega
          clear hje hlt
          generalize zi true m = z at *
          generalize (E 10 m).length = lm at *
          go_wp2_with fail
          refine (HSG.out _ (Below.refl _ _)).mono ?_
          rintro e w2 ⟨na, nc, rfl, hr2, hc2, hb2'⟩
          have hq2 := Lib.hid (hq.out.go hb2')
          have HRB := Lib.hid hr2
          have HLG := Lib.hid (fun W => refLong_any (neg z) na (E 10 z.natAbs).length nc W)
          have hshz : decide (400 < (E 10 z.natAbs).length) = true ↔ ¬ Sh z := by unfold Sh; rw [decide_eq_true_iff]; omega
          have HSH := Lib.hid hshz
          clear hr2 hb2' HSG hshz hc2
          generalize hlz : (E 10 z.natAbs).length = lz at *
          generalize hnz : neg z = nz at *
          generalize hdl : decide (400 < lz) = dl at *
          clear hdl
          go_wp2_with fail
          refine (HLG.out _).mono ?_
          rintro e w4 ⟨rfl, hb4⟩
          have hq4 := Lib.hid (hq2.out.go (((Below.refl _ w2).alloc (Nat.le_refl _) _).trans (hb4.mono (by simp))))
          have hr4 := Lib.hid (HRB.out.go (((Below.refl _ w2).alloc (Nat.le_refl _) _).trans (hb4.mono (by simp))))
          have c40 : w4.cell? ⟨w2.heap.size, 0, none⟩ = some (.bool nz) := by rw [hb4.cell (p := ⟨w2.heap.size, 0, none⟩) (by simp), World.cell?_alloc_at _ _ _ _ rfl]; rfl
          have c41 : w4.cell? ⟨w2.heap.size, 1, none⟩ = some (.slice na lz nc) := by rw [hb4.cell (p := ⟨w2.heap.size, 1, none⟩) (by simp), World.cell?_alloc_at _ _ _ _ rfl]; rfl
          obtain ⟨x0, x1, f0, f1⟩ := hq4.out.1.facts
          clear hb4 HLG hq2 HRB hq
          cases dl
          · have hsh : Sh z := Classical.byContradiction fun g => absurd (HSH.out.2 g) (by decide)
            have hfin := Lib.hid (HG3.out.1 hsh)
            clear HSH HG3
            go_wp2
            have q2 := (hq4.out.stored (.bool nz) (.slice na lz nc)).1.facts
            refine bodyPost_ret (v := .tuple #[.agg #[.bool nz, .slice na lz nc], .int .i64 0]) (by simp [results, Try.results10, go_sem, q2.1, q2.2.1]) rfl ?_
            have hst := hq4.out.stored (.bool nz) (.slice na lz nc)
            have hp2 := heap_put2 w4 w.heap.size (.bool nz) (.slice na lz nc)
            exact hfin.out na nc _ (hr4.out.boxed w.heap.size hq4.out.1 hp2.1 hp2.2) hst.2
          · have hsh : ¬ Sh z := HSH.out.1 rfl
            have hfin := Lib.hid (HG3.out.2 hsh)
            clear HSH HG3 hsh
            go_wp2
            have q2 := (hq4.out.stored (.bool false) (.slice none 0 0)).1.facts
            refine bodyPost_ret (v := .tuple #[.agg #[.bool false, .slice none 0 0], .int .i64 6]) (by simp [results, Try.results10, go_sem, q2.1, q2.2.1]) rfl ?_
            exact hfin.out _ (hq4.out.stored _ _).2
    · subst hpn
      have q45 : ((s[0].toNat : Int) == 45) = false := by rw [hc0]; rfl
      have q43 : ((s[0].toNat : Int) == 43) = true := by rw [hc0]; rfl
      clear hc0
      have hszi : (0 : Int) < s.size := by omega
      by_cases hl0 : ll = 0
      · have hsz1 : s.size = 1 := by omega
        have hfin := Lib.hid (HEmp.out (List.length_eq_zero_iff.1 (hllh.out.trans hl0)))
        have q1 : ((1 : Int) == (s.size : Int)) = true := by rw [hsz1]; rfl
        clear HEmp HBad HGood HQ0 HSTEP hfull HAT HGB hA hl0 hPD hsz1 hne
        go_enter Try.func10, Try.ntmps10
        go_wp2_with fail
        refine (HI.out _).mono ?_
        rintro e w0 ⟨rfl, hw⟩
        obtain rfl := hw.symm
        go_wp2
        refine bodyPost_ret (v := .tuple #[.agg #[.bool false, .slice none 0 0], .int .i64 3]) (by simp [results, Try.results10, go_sem]) rfl ?_
        exact hfin.out _
      have hl0 : 0 < ll := by omega
      have q1 : ((1 : Int) == (s.size : Int)) = false := by rw [beq_eq_false_iff_ne]; omega
      have HGood2 : Hid ((∀ i, i < ll → dgc (l.getD i 0) < b) → ∀ m, m = vm b pd → (Sh (zi false m) → ∀ a c w', Rb w' a (E 10 (zi false m).natAbs) → Below w.heap.size w w' → Po (.returned (.tuple #[.agg #[.bool (neg (zi false m)), .slice a (E 10 (zi false m).natAbs).length c], .int .i64 0])) w') ∧ (¬ Sh (zi false m) → ∀ w', Below w.heap.size w w' → Po (.returned (.tuple #[.agg #[.bool false, .slice none 0 0], .int .i64 6])) w')) := Lib.hid fun h m hm => by
        rcases HGood.out h m hm with g | g
        · exact ⟨g.1, g.2.1⟩
        · exfalso; have := hllh.out; rw [g] at this; simp at this; omega
      clear HEmp HGood hPD hne
      go_enter Try.func10, Try.ntmps10
      go_wp2_with fail
      refine (HI.out _).mono ?_
      rintro e w0 ⟨rfl, hw⟩
      obtain rfl := hw.symm
      go_wp2_with fail
      go_loopw [7, 8] (fun v i wr => ∃ (j m : Nat) (ra : Option Addr) (rc : Nat), 1 ≤ j ∧ j ≤ s.size ∧ i = .int .i64 j ∧ v = .slice ra (E 10 m).length rc ∧ Hid (m = vm b (pd.take (j - 1)) ∧ ∀ i, i < j - 1 → dgc (l.getD i 0) < b) ∧ (E 10 m).length ≤ 4 * (j - 1) ∧ (E 10 m).length ≤ rc ∧ Hid (Rb wr ra (E 10 m)) ∧ Hid (Rq w.heap.size w wr)) (fun _ i _ => s.size - (intOf i).toNat)
      case atStart => exact ⟨1, 0, none, 0, Nat.le_refl _, by omega, rfl, rfl, Lib.hid ⟨by simp [vm], fun i hi => by omega⟩, Nat.zero_le _, Nat.zero_le _, Lib.hid (Rb.nil _ _), HQ0⟩
      case round =>
        clear HQ0
        obtain ⟨j, m, ra, rc, hjA, hj, rfl, rfl, HS, hlen, hrc, hrb, hq⟩ := hrel
        by_cases hlt : j < s.size
        · have hlj : l.getD (j - 1) 0 = s[j] := by rw [HAT.out, show 1 + (j - 1) = j by omega]; exact HGB.out j hlt
          have hji : (j : Int) < s.size := by omega
          have hj0i : (0 : Int) ≤ j := by omega
          by_cases hd : dgc s[j] < b
          · have HD := Lib.hid (fun W => rdigit_ok s[j] W (by omega))
            have hst := HSTEP.out (j - 1) (by omega) s[j] hlj
            have HM : Hid (b * m + dgc s[j] = vm b (pd.take (j + 1 - 1)) ∧ ∀ i, i < j + 1 - 1 → dgc (l.getD i 0) < b) := Lib.hid ⟨by rw [show j + 1 - 1 = j - 1 + 1 by omega, hst, ← HS.out.1], fun i hi => by
              by_cases e : i = j - 1
              · rw [e, hlj]; exact hd
              · exact HS.out.2 i (by omega)⟩
            have HSC := Lib.hid (fun W (h : Below wr.heap.size wr W) => refScale_any m b (dgc s[j]) (by omega) (by omega) (by omega) ra rc W (hrb.out.go h) (by omega))
            have hl2 := Lib.hid (len_scaled m b (dgc s[j]) (4 * (j - 1)) (by omega) (by omega) hlen)
            have hdi : ((dgc s[j] : Nat) : Int) < (b : Int) := by omega
            clear hst hlj HSTEP hfull HAT HGB HBad HGood2 HS hrb hlen hrc
            generalize dgc s[j] = d at *
            generalize (E 10 m).length = lm at *
            go_wp2_with fail
            refine (HD.out _).mono ?_
            rintro e w1 ⟨rfl, hw1⟩
            obtain rfl := hw1.symm
            go_wp2_with fail
            refine (HSC.out _ (Below.refl _ _)).mono ?_
            rintro e w2 ⟨na, nc, rfl, hr2, hc2, hb2'⟩
            have hq2 := Lib.hid (hq.out.go hb2')
            have hr2h := Lib.hid hr2
            clear hr2 hb2' HSC HD
            go_wp2_with fail
            go_roundw
            case rel => exact ⟨j + 1, b * m + d, na, nc, by omega, by omega, by go_num, rfl, HM, by have := hl2.out; omega, hc2, hr2h, hq2⟩
            case measure => simp [intOf]; omega
          · obtain ⟨v, hv, HD⟩ : ∃ v : Int, (b : Int) ≤ v ∧ Hid (∀ W, Calls Try.prog 42 #[.int .u8 (s[j].toNat : Int)] W fun e w' => e = .returned (.int .i64 v) ∧ W = w') := by
              by_cases h16 : dgc s[j] < 16
              · exact ⟨((dgc s[j] : Nat) : Int), by omega, Lib.hid fun W => rdigit_ok s[j] W h16⟩
              · exact ⟨99, by omega, Lib.hid fun W => rdigit_no s[j] W h16⟩
            have hfin := Lib.hid (HBad.out (j - 1) (by omega) (by rw [hlj]; omega))
            obtain ⟨x0, x1, f0, f1⟩ := hq.out.1.facts
            clear hlj hd HSTEP hfull HAT HGB HBad HGood2 HS hrb hlen hrc
            generalize (E 10 m).length = lm at *
            go_wp2_with fail
            refine (HD.out _).mono ?_
            rintro e w1 ⟨rfl, hw1⟩
            obtain rfl := hw1.symm
            go_wp2
            have q2 := (hq.out.stored (.bool false) (.slice none 0 0)).1.facts
            refine bodyPost_ret (v := .tuple #[.agg #[.bool false, .slice none 0 0], .int .i64 3]) (by simp [results, Try.results10, go_sem, q2.1, q2.2.1]) rfl ?_
            exact hfin.out _ (hq.out.stored _ _).2
        · have hje : j = s.size := by omega
          have hjk : j - 1 = ll := by omega
          obtain ⟨hm, hall⟩ := HS.out
          rw [hjk, hfull.out ll (by have := hllh.out; omega)] at hm
          rw [hjk] at hall
          have HG3 := Lib.hid (HGood2.out hall m hm)
          have HSG := Lib.hid (fun W (h : Below wr.heap.size wr W) => refSigned_any false (E 10 m) ra rc W (by omega) hrc (hrb.out.go h) (dg_E 10 m (by omega) (by omega)))
          rw [vb_E 10 m (by omega) (by omega)] at HSG
          have hjd : decide ((j : Int) < s.size) = false := decide_eq_false (by omega)
          clear hm hall hjk HSTEP hfull HAT HGB HBad HGood2 HS hrb hrc
          have hjn : (s.size : Int) ≤ j := by omega
          clear hje hlt
          generalize zi false m = z at *
          generalize (E 10 m).length = lm at *
          go_wp2_with fail
          refine (HSG.out _ (Below.refl _ _)).mono ?_
          rintro e w2 ⟨na, nc, rfl, hr2, hc2, hb2'⟩
          have hq2 := Lib.hid (hq.out.go hb2')
          have HRB := Lib.hid hr2
          have HLG := Lib.hid (fun W => refLong_any (neg z) na (E 10 z.natAbs).length nc W)
          have hshz : decide (400 < (E 10 z.natAbs).length) = true ↔ ¬ Sh z := by unfold Sh; rw [decide_eq_true_iff]; omega
          have HSH := Lib.hid hshz
          clear hr2 hb2' HSG hshz hc2
          generalize hlz : (E 10 z.natAbs).length = lz at *
          generalize hnz : neg z = nz at *
          generalize hdl : decide (400 < lz) = dl at *
          clear hdl
          go_wp2_with fail
          refine (HLG.out _).mono ?_
          rintro e w4 ⟨rfl, hb4⟩
          have hq4 := Lib.hid (hq2.out.go (((Below.refl _ w2).alloc (Nat.le_refl _) _).trans (hb4.mono (by simp))))
          have hr4 := Lib.hid (HRB.out.go (((Below.refl _ w2).alloc (Nat.le_refl _) _).trans (hb4.mono (by simp))))
          have c40 : w4.cell? ⟨w2.heap.size, 0, none⟩ = some (.bool nz) := by rw [hb4.cell (p := ⟨w2.heap.size, 0, none⟩) (by simp), World.cell?_alloc_at _ _ _ _ rfl]; rfl
          have c41 : w4.cell? ⟨w2.heap.size, 1, none⟩ = some (.slice na lz nc) := by rw [hb4.cell (p := ⟨w2.heap.size, 1, none⟩) (by simp), World.cell?_alloc_at _ _ _ _ rfl]; rfl
          obtain ⟨x0, x1, f0, f1⟩ := hq4.out.1.facts
          clear hb4 HLG hq2 HRB hq
          cases dl
          · have hsh : Sh z := Classical.byContradiction fun g => absurd (HSH.out.2 g) (by decide)
            have hfin := Lib.hid (HG3.out.1 hsh)
            clear HSH HG3
            go_wp2
            have q2 := (hq4.out.stored (.bool nz) (.slice na lz nc)).1.facts
            refine bodyPost_ret (v := .tuple #[.agg #[.bool nz, .slice na lz nc], .int .i64 0]) (by simp [results, Try.results10, go_sem, q2.1, q2.2.1]) rfl ?_
            have hst := hq4.out.stored (.bool nz) (.slice na lz nc)
            have hp2 := heap_put2 w4 w.heap.size (.bool nz) (.slice na lz nc)
            exact hfin.out na nc _ (hr4.out.boxed w.heap.size hq4.out.1 hp2.1 hp2.2) hst.2
          · have hsh : ¬ Sh z := HSH.out.1 rfl
            have hfin := Lib.hid (HG3.out.2 hsh)
            clear HSH HG3 hsh
            go_wp2
            have q2 := (hq4.out.stored (.bool false) (.slice none 0 0)).1.facts
            refine bodyPost_ret (v := .tuple #[.agg #[.bool false, .slice none 0 0], .int .i64 6]) (by simp [results, Try.results10, go_sem, q2.1, q2.2.1]) rfl ?_
            exact hfin.out _ (hq4.out.stored _ _).2
    · subst hpn
      have q45 : ((s[0].toNat : Int) == 45) = false := by rw [beq_eq_false_iff_ne]; intro e; exact hc0 (UInt8.toNat_inj.1 (by have : (45 : UInt8).toNat = 45 := rfl; omega))
      have q43 : ((s[0].toNat : Int) == 43) = false := by rw [beq_eq_false_iff_ne]; intro e; exact hc1 (UInt8.toNat_inj.1 (by have : (43 : UInt8).toNat = 43 := rfl; omega))
      clear hc0 hc1
      have hszi : (0 : Int) < s.size := by omega
      have hl0 : 0 < ll := by omega
      have q1 : ((0 : Int) == (s.size : Int)) = false := by rw [beq_eq_false_iff_ne]; omega
      have HGood2 : Hid ((∀ i, i < ll → dgc (l.getD i 0) < b) → ∀ m, m = vm b pd → (Sh (zi false m) → ∀ a c w', Rb w' a (E 10 (zi false m).natAbs) → Below w.heap.size w w' → Po (.returned (.tuple #[.agg #[.bool (neg (zi false m)), .slice a (E 10 (zi false m).natAbs).length c], .int .i64 0])) w') ∧ (¬ Sh (zi false m) → ∀ w', Below w.heap.size w w' → Po (.returned (.tuple #[.agg #[.bool false, .slice none 0 0], .int .i64 6])) w')) := Lib.hid fun h m hm => by
        rcases HGood.out h m hm with g | g
        · exact ⟨g.1, g.2.1⟩
        · exfalso; have := hllh.out; rw [g] at this; simp at this; omega
      clear HEmp HGood hPD hne
      go_enter Try.func10, Try.ntmps10
      go_wp2_with fail
      refine (HI.out _).mono ?_
      rintro e w0 ⟨rfl, hw⟩
      obtain rfl := hw.symm
      go_wp2_with fail
      go_loopw [7, 8] (fun v i wr => ∃ (j m : Nat) (ra : Option Addr) (rc : Nat), 0 ≤ j ∧ j ≤ s.size ∧ i = .int .i64 j ∧ v = .slice ra (E 10 m).length rc ∧ Hid (m = vm b (pd.take (j - 0)) ∧ ∀ i, i < j - 0 → dgc (l.getD i 0) < b) ∧ (E 10 m).length ≤ 4 * (j - 0) ∧ (E 10 m).length ≤ rc ∧ Hid (Rb wr ra (E 10 m)) ∧ Hid (Rq w.heap.size w wr)) (fun _ i _ => s.size - (intOf i).toNat)
      case atStart => exact ⟨0, 0, none, 0, Nat.le_refl _, by omega, rfl, rfl, Lib.hid ⟨by simp [vm], fun i hi => by omega⟩, Nat.zero_le _, Nat.zero_le _, Lib.hid (Rb.nil _ _), HQ0⟩
      case round =>
        clear HQ0
        obtain ⟨j, m, ra, rc, hjA, hj, rfl, rfl, HS, hlen, hrc, hrb, hq⟩ := hrel
        by_cases hlt : j < s.size
        · have hlj : l.getD (j - 0) 0 = s[j] := by rw [HAT.out, show 0 + (j - 0) = j by omega]; exact HGB.out j hlt
          have hji : (j : Int) < s.size := by omega
          have hj0i : (0 : Int) ≤ j := by omega
          by_cases hd : dgc s[j] < b
          · have HD := Lib.hid (fun W => rdigit_ok s[j] W (by omega))
            have hst := HSTEP.out (j - 0) (by omega) s[j] hlj
            have HM : Hid (b * m + dgc s[j] = vm b (pd.take (j + 1 - 0)) ∧ ∀ i, i < j + 1 - 0 → dgc (l.getD i 0) < b) := Lib.hid ⟨by rw [show j + 1 - 0 = j - 0 + 1 by omega, hst, ← HS.out.1], fun i hi => by
              by_cases e : i = j - 0
              · rw [e, hlj]; exact hd
              · exact HS.out.2 i (by omega)⟩
            have HSC := Lib.hid (fun W (h : Below wr.heap.size wr W) => refScale_any m b (dgc s[j]) (by omega) (by omega) (by omega) ra rc W (hrb.out.go h) (by omega))
            have hl2 := Lib.hid (len_scaled m b (dgc s[j]) (4 * (j - 0)) (by omega) (by omega) hlen)
            have hdi : ((dgc s[j] : Nat) : Int) < (b : Int) := by omega
            clear hst hlj HSTEP hfull HAT HGB HBad HGood2 HS hrb hlen hrc
            generalize dgc s[j] = d at *
            generalize (E 10 m).length = lm at *
            go_wp2_with fail
            refine (HD.out _).mono ?_
            rintro e w1 ⟨rfl, hw1⟩
            obtain rfl := hw1.symm
            go_wp2_with fail
            refine (HSC.out _ (Below.refl _ _)).mono ?_
            rintro e w2 ⟨na, nc, rfl, hr2, hc2, hb2'⟩
            have hq2 := Lib.hid (hq.out.go hb2')
            have hr2h := Lib.hid hr2
            clear hr2 hb2' HSC HD
            go_wp2_with fail
            go_roundw
            case rel => exact ⟨j + 1, b * m + d, na, nc, by omega, by omega, by go_num, rfl, HM, by have := hl2.out; omega, hc2, hr2h, hq2⟩
            case measure => simp [intOf]; omega
          · obtain ⟨v, hv, HD⟩ : ∃ v : Int, (b : Int) ≤ v ∧ Hid (∀ W, Calls Try.prog 42 #[.int .u8 (s[j].toNat : Int)] W fun e w' => e = .returned (.int .i64 v) ∧ W = w') := by
              by_cases h16 : dgc s[j] < 16
              · exact ⟨((dgc s[j] : Nat) : Int), by omega, Lib.hid fun W => rdigit_ok s[j] W h16⟩
              · exact ⟨99, by omega, Lib.hid fun W => rdigit_no s[j] W h16⟩
            have hfin := Lib.hid (HBad.out (j - 0) (by omega) (by rw [hlj]; omega))
            obtain ⟨x0, x1, f0, f1⟩ := hq.out.1.facts
            clear hlj hd HSTEP hfull HAT HGB HBad HGood2 HS hrb hlen hrc
            generalize (E 10 m).length = lm at *
            go_wp2_with fail
            refine (HD.out _).mono ?_
            rintro e w1 ⟨rfl, hw1⟩
            obtain rfl := hw1.symm
            go_wp2
            have q2 := (hq.out.stored (.bool false) (.slice none 0 0)).1.facts
            refine bodyPost_ret (v := .tuple #[.agg #[.bool false, .slice none 0 0], .int .i64 3]) (by simp [results, Try.results10, go_sem, q2.1, q2.2.1]) rfl ?_
            exact hfin.out _ (hq.out.stored _ _).2
        · have hje : j = s.size := by omega
          have hjk : j - 0 = ll := by omega
          obtain ⟨hm, hall⟩ := HS.out
          rw [hjk, hfull.out ll (by have := hllh.out; omega)] at hm
          rw [hjk] at hall
          have HG3 := Lib.hid (HGood2.out hall m hm)
          have HSG := Lib.hid (fun W (h : Below wr.heap.size wr W) => refSigned_any false (E 10 m) ra rc W (by omega) hrc (hrb.out.go h) (dg_E 10 m (by omega) (by omega)))
          rw [vb_E 10 m (by omega) (by omega)] at HSG
          have hjd : decide ((j : Int) < s.size) = false := decide_eq_false (by omega)
          clear hm hall hjk HSTEP hfull HAT HGB HBad HGood2 HS hrb hrc
          have hjn : (s.size : Int) ≤ j := by omega
          clear hje hlt
          generalize zi false m = z at *
          generalize (E 10 m).length = lm at *
          go_wp2_with fail
          refine (HSG.out _ (Below.refl _ _)).mono ?_
          rintro e w2 ⟨na, nc, rfl, hr2, hc2, hb2'⟩
          have hq2 := Lib.hid (hq.out.go hb2')
          have HRB := Lib.hid hr2
          have HLG := Lib.hid (fun W => refLong_any (neg z) na (E 10 z.natAbs).length nc W)
          have hshz : decide (400 < (E 10 z.natAbs).length) = true ↔ ¬ Sh z := by unfold Sh; rw [decide_eq_true_iff]; omega
          have HSH := Lib.hid hshz
          clear hr2 hb2' HSG hshz hc2
          generalize hlz : (E 10 z.natAbs).length = lz at *
          generalize hnz : neg z = nz at *
          generalize hdl : decide (400 < lz) = dl at *
          clear hdl
          go_wp2_with fail
          refine (HLG.out _).mono ?_
          rintro e w4 ⟨rfl, hb4⟩
          have hq4 := Lib.hid (hq2.out.go (((Below.refl _ w2).alloc (Nat.le_refl _) _).trans (hb4.mono (by simp))))
          have hr4 := Lib.hid (HRB.out.go (((Below.refl _ w2).alloc (Nat.le_refl _) _).trans (hb4.mono (by simp))))
          have c40 : w4.cell? ⟨w2.heap.size, 0, none⟩ = some (.bool nz) := by rw [hb4.cell (p := ⟨w2.heap.size, 0, none⟩) (by simp), World.cell?_alloc_at _ _ _ _ rfl]; rfl
          have c41 : w4.cell? ⟨w2.heap.size, 1, none⟩ = some (.slice na lz nc) := by rw [hb4.cell (p := ⟨w2.heap.size, 1, none⟩) (by simp), World.cell?_alloc_at _ _ _ _ rfl]; rfl
          obtain ⟨x0, x1, f0, f1⟩ := hq4.out.1.facts
          clear hb4 HLG hq2 HRB hq
          cases dl
          · have hsh : Sh z := Classical.byContradiction fun g => absurd (HSH.out.2 g) (by decide)
            have hfin := Lib.hid (HG3.out.1 hsh)
            clear HSH HG3
            go_wp2
            have q2 := (hq4.out.stored (.bool nz) (.slice na lz nc)).1.facts
            refine bodyPost_ret (v := .tuple #[.agg #[.bool nz, .slice na lz nc], .int .i64 0]) (by simp [results, Try.results10, go_sem, q2.1, q2.2.1]) rfl ?_
            have hst := hq4.out.stored (.bool nz) (.slice na lz nc)
            have hp2 := heap_put2 w4 w.heap.size (.bool nz) (.slice na lz nc)
            exact hfin.out na nc _ (hr4.out.boxed w.heap.size hq4.out.1 hp2.1 hp2.2) hst.2
          · have hsh : ¬ Sh z := HSH.out.1 rfl
            have hfin := Lib.hid (HG3.out.2 hsh)
            clear HSH HG3 hsh
            go_wp2
            have q2 := (hq4.out.stored (.bool false) (.slice none 0 0)).1.facts
            refine bodyPost_ret (v := .tuple #[.agg #[.bool false, .slice none 0 0], .int .i64 6]) (by simp [results, Try.results10, go_sem, q2.1, q2.2.1]) rfl ?_
            exact hfin.out _ (hq4.out.stored _ _).2
end Go.Proofs.Ytmnopohjnbpinab
