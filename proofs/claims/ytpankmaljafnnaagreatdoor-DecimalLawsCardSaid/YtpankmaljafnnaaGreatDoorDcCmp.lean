/-
  Helper: the walks of compareDigits and what it calls, of number.sign.
-/
import Derived.Test.YtpankmaljafnnaaGreatDoorDcSum
namespace Go.Proofs.YtpankmaljafnnaaGreatDoor
open Go.RowKit
set_option linter.unusedVariables false
set_option linter.unusedSimpArgs false

set_option maxHeartbeats 400000 in
theorem isNaN_byte (x : Int) (w : World) : Calls Tryz.prog 127 #[.int .u8 x] w fun e w' => e = .returned (.bool false) ∧ w = w' := by
  have hd : (x != x) = false := by simp
  go_enter Tryz.func127, Tryz.ntmps127
  go_wp2
  go_ret
  exact ⟨rfl, rfl⟩
set_option maxHeartbeats 1000000 in
theorem cmp_byte (x y : Int) (w : World) : Calls Tryz.prog 104 #[.int .u8 x, .int .u8 y] w fun e w' => e = .returned (.int .i64 (Lib.compareInt x y)) ∧ w = w' := by
  have hx := Lib.hid (show Lib.compareInt x y = if x < y then -1 else if x > y then 1 else 0 from rfl)
  by_cases h1 : x < y
  · have hr : Hid (Lib.compareInt x y = -1) := by rw [hx.out, if_pos h1]; rfl
    go_enter Tryz.func104, Tryz.ntmps104
    go_wp2_with (go_at_call 127; refine (isNaN_byte _ _).mono ?_; rintro e w' ⟨rfl, rfl⟩)
    go_ret
    rw [hr.out]
    exact ⟨rfl, rfl⟩
  · by_cases h2 : y < x
    · have hr : Hid (Lib.compareInt x y = 1) := by rw [hx.out, if_neg h1, if_pos h2]; rfl
      go_enter Tryz.func104, Tryz.ntmps104
      go_wp2_with (go_at_call 127; refine (isNaN_byte _ _).mono ?_; rintro e w' ⟨rfl, rfl⟩)
      go_ret
      rw [hr.out]
      exact ⟨rfl, rfl⟩
    · have hr : Hid (Lib.compareInt x y = 0) := by rw [hx.out, if_neg h1, if_neg h2]; rfl
      go_enter Tryz.func104, Tryz.ntmps104
      go_wp2_with (go_at_call 127; refine (isNaN_byte _ _).mono ?_; rintro e w' ⟨rfl, rfl⟩)
      go_ret
      rw [hr.out]
      exact ⟨rfl, rfl⟩

/-- digits compared from the first on -/
def cmpL : List UInt8 → List UInt8 → Int
  | [], [] => 0
  | [], _ :: _ => -1
  | _ :: _, [] => 1
  | a :: p, b :: q => if a.toNat < b.toNat then -1 else if b.toNat < a.toNat then 1 else cmpL p q
theorem cmpL_vals : ∀ (p q : List UInt8), cmpL p q = -1 ∨ cmpL p q = 0 ∨ cmpL p q = 1
  | [], [] => .inr (.inl rfl)
  | [], _ :: _ => .inl rfl
  | _ :: _, [] => .inr (.inr rfl)
  | a :: p, b :: q => by
    unfold cmpL
    split
    · exact .inl rfl
    · split
      · exact .inr (.inr rfl)
      · exact cmpL_vals p q
set_option maxHeartbeats 1000000 in
theorem cmpF_any (a b : Nat) (w : World) : Calls Tryz.prog 103 #[.int .u8 (a : Int), .int .u8 (b : Int)] w fun e w' => e = .returned (.int .i64 (if a < b then -1 else if b < a then 1 else 0)) ∧ w = w' := by
  have HC := Lib.hid (cmp_byte (a : Int) (b : Int) w)
  have e1 : Lib.compareInt (a : Int) (b : Int) = (if a < b then (-1 : Int) else if b < a then 1 else 0) := by
    unfold Lib.compareInt
    by_cases h : a < b
    · rw [if_pos h, if_pos (by omega)]
    · rw [if_neg h, if_neg (by omega)]
      by_cases h2 : b < a
      · rw [if_pos h2, if_pos (by omega)]
      · rw [if_neg h2, if_neg (by omega)]
  rw [e1] at HC
  generalize (if a < b then (-1 : Int) else if b < a then 1 else 0) = r at *
  clear e1
  go_enter Tryz.func103, Tryz.ntmps103
  go_wp2_with fail
  refine HC.out.mono ?_
  rintro e w' ⟨rfl, rfl⟩
  go_wp2
  first | exact ⟨rfl, rfl⟩ | (go_ret; exact ⟨rfl, rfl⟩)
theorem cmpL_drop (p q : List UInt8) (k : Nat) (h1 : k < p.length) (h2 : k < q.length) : cmpL (p.drop k) (q.drop k) = if (p.getD k 0).toNat < (q.getD k 0).toNat then -1 else if (q.getD k 0).toNat < (p.getD k 0).toNat then 1 else cmpL (p.drop (k + 1)) (q.drop (k + 1)) := by
  rw [drop_at p k h1, drop_at q k h2]; rfl
theorem cmpL_left (p q : List UInt8) (k : Nat) (h1 : k < p.length) (h2 : q.length ≤ k) : cmpL (p.drop k) (q.drop k) = 1 := by
  rw [drop_at p k h1, List.drop_of_length_le h2]; rfl
theorem cmpL_right (p q : List UInt8) (h1 : p.length < q.length) : cmpL (p.drop p.length) (q.drop p.length) = -1 := by
  rw [List.drop_of_length_le (Nat.le_refl _), drop_at q p.length h1]; rfl
theorem cmpL_end (p q : List UInt8) (h1 : q.length ≤ p.length) : cmpL (p.drop p.length) (q.drop p.length) = 0 := by
  rw [List.drop_of_length_le (Nat.le_refl _), List.drop_of_length_le h1]; rfl
set_option maxRecDepth 100000 in
set_option maxHeartbeats 4000000 in
theorem cmpFun_any (p q : List UInt8) (ap aq : Option Addr) (cp cq : Nat) (hl : p.length ≤ 1000000) (hl2 : q.length ≤ 1000000) (hcp : p.length ≤ cp) (hcq : q.length ≤ cq) (w : World) (hrp : Rb w ap p) (hrq : Rb w aq q) :
    Calls Tryz.prog 102 #[.slice ap p.length cp, .slice aq q.length cq, .func (.func 103) #[] #[]] w fun e w' => e = .returned (.int .i64 (cmpL p q)) ∧ w = w' := by
  have HF : Hid (∀ r, cmpL p q = r → (fun e w' => e = .returned (.int .i64 (cmpL p q)) ∧ w = w') (Ending.returned (.int .i64 r)) w) := fun r h => ⟨by rw [h], rfl⟩
  have HP := Lib.hid (fun i hi => hrp.at i hi)
  have HQ := Lib.hid (fun i hi => hrq.at i hi)
  have HD := Lib.hid (fun k h1 h2 => cmpL_drop p q k h1 h2)
  have HL := Lib.hid (fun k h1 h2 => cmpL_left p q k h1 h2)
  have HR := Lib.hid (cmpL_right p q)
  have HE := Lib.hid (cmpL_end p q)
  have HC := Lib.hid (fun a b => cmpF_any a b w)
  have H0 : Hid (cmpL (p.drop 0) (q.drop 0) = cmpL p q) := rfl
  generalize (fun (e : Ending) (w' : World) => e = .returned (.int .i64 (cmpL p q)) ∧ w = w') = Po at *
  clear hrp hrq
  generalize p.length = n at *
  generalize q.length = m at *
  generalize cmpL p q = C at *
  go_enter Tryz.func102, Tryz.ntmps102
  go_wp2
  go_loop [13] (fun i => ∃ k : Nat, k ≤ n ∧ i = .int .i64 k ∧ Hid (cmpL (p.drop k) (q.drop k) = C)) (fun i => n - (intOf i).toNat)
  case atStart => exact ⟨0, Nat.zero_le _, rfl, H0.out⟩
  case round =>
    obtain ⟨k, hk, rfl, HI⟩ := hrel
    by_cases hlt : k < n
    · have y1 : (k : Int) < (n : Int) := by omega
      have y0 : (0 : Int) ≤ (k : Int) := by omega
      obtain ⟨b1, o1, rfl, _, x1⟩ := HP.out k hlt
      by_cases hm : k < m
      · have y2 : ¬ (m : Int) ≤ (k : Int) := by omega
        have y3 : (k : Int) < (m : Int) := by omega
        obtain ⟨b2, o2, rfl, _, x2⟩ := HQ.out k hm
        have hd := (HD.out k hlt hm).symm.trans HI.out
        generalize (p.getD k 0).toNat = a at *
        generalize (q.getD k 0).toNat = b at *
        have HC1 := Lib.hid (HC.out a b)
        clear HP HQ HD HL HR HE HC H0 HI
        by_cases c1 : a < b
        · rw [if_pos c1] at hd HC1
          have hfin := Lib.hid (HF.out (-1) hd.symm)
          clear hd c1 HF
          go_wp2_with fail
          refine HC1.out.mono ?_
          rintro e w' ⟨rfl, rfl⟩
          go_wp2
          exact hfin.out
        · rw [if_neg c1] at hd HC1
          by_cases c2 : b < a
          · rw [if_pos c2] at hd HC1
            have hfin := Lib.hid (HF.out 1 hd.symm)
            clear hd c2 c1 HF
            go_wp2_with fail
            refine HC1.out.mono ?_
            rintro e w' ⟨rfl, rfl⟩
            go_wp2
            exact hfin.out
          · rw [if_neg c2] at hd HC1
            have hd2 := Lib.hid hd
            clear hd c2 c1
            go_wp2_with fail
            refine HC1.out.mono ?_
            rintro e w' ⟨rfl, rfl⟩
            go_wp2
            go_round
            case rel => exact ⟨k + 1, by omega, by go_num, hd2.out⟩
            case measure => simp [intOf]; omega
      · have y2 : (m : Int) ≤ (k : Int) := by omega
        have hfin := Lib.hid (HF.out 1 (HI.out.symm.trans (HL.out k hlt (by omega))))
        clear HP HQ HD HL HR HE HC H0 HI HF
        generalize (p.getD k 0).toNat = a at *
        go_wp2
        exact hfin.out
    · obtain rfl : k = n := by omega
      by_cases hnm : k < m
      · have y1 : (k : Int) < (m : Int) := by omega
        have hfin := Lib.hid (HF.out (-1) (HI.out.symm.trans (HR.out hnm)))
        clear HP HQ HD HL HR HE HC H0 HI HF
        go_wp2
        exact hfin.out
      · have y1 : ¬ (k : Int) < (m : Int) := by omega
        have hfin := Lib.hid (HF.out 0 (HI.out.symm.trans (HE.out (by omega))))
        clear HP HQ HD HL HR HE HC H0 HI HF
        go_wp2
        exact hfin.out
set_option maxRecDepth 100000 in
set_option maxHeartbeats 2000000 in
theorem cmpD_any (p q : List UInt8) (ap aq : Option Addr) (cp cq : Nat) (hl : p.length ≤ 1000000) (hl2 : q.length ≤ 1000000) (hcp : p.length ≤ cp) (hcq : q.length ≤ cq) (w : World) (hrp : Rb w ap p) (hrq : Rb w aq q) :
    Calls Tryz.prog 74 #[.slice ap p.length cp, .slice aq q.length cq] w fun e w' => e = .returned (.int .i64 (cmpL p q)) ∧ w = w' := by
  have HC := Lib.hid (cmpFun_any p q ap aq cp cq hl hl2 hcp hcq w hrp hrq)
  clear hrp hrq
  generalize p.length = n at *
  generalize q.length = m at *
  generalize cmpL p q = C at *
  go_enter Tryz.func74, Tryz.ntmps74
  go_wp2_with fail
  refine HC.out.mono ?_
  rintro e w' ⟨rfl, rfl⟩
  go_wp2
  first | exact ⟨rfl, rfl⟩ | (go_ret; exact ⟨rfl, rfl⟩)
def sgI (z : Int) : Int := if z < 0 then -1 else if 0 < z then 1 else 0
set_option maxRecDepth 100000 in
set_option maxHeartbeats 2000000 in
theorem sign_any (z : Int) (e : Int) (a : Option Addr) (cap : Nat) (hcap : (body 10 z.natAbs).length ≤ cap) (hs : (body 10 z.natAbs).length ≤ 1000000) (w : World) (hr : Rb w a (body 10 z.natAbs)) :
    Calls Tryz.prog 77 #[.agg (nvl (neg z) a (body 10 z.natAbs).length cap e).toArray] w fun en w' => en = .returned (.int .i64 (sgI z)) ∧ Below w.heap.size w w' := by
  obtain ⟨wb, hwb⟩ : ∃ wb, w.alloc (.cells (nvl (neg z) a (body 10 z.natAbs).length cap e).toArray 61) = wb := ⟨_, rfl⟩
  obtain ⟨N, hN⟩ : ∃ N, w.heap.size = N := ⟨_, rfl⟩
  have hB : Hid (Blk wb N 61 (nvl (neg z) a (body 10 z.natAbs).length cap e)) := by rw [← hwb, ← hN]; exact Blk.new w _ _
  have hbel : Below w.heap.size w wb := by rw [← hwb]; exact (Below.refl _ w).alloc (Nat.le_refl _) _
  have hb : Hid (Below w.heap.size w wb) := hbel
  have hpos : 0 < (body 10 z.natAbs).length := List.length_pos_iff.2 (body_ne 10 _ (by omega))
  obtain ⟨g, off, rfl, _, hc⟩ := (hr.go hbel).at 0 hpos
  have c0 := hB.out.cell 0 (.bool (neg z)) rfl
  have c1 := hB.out.cell 1 (.slice (some ⟨g, off, none⟩) (body 10 z.natAbs).length cap) rfl
  have hh : ((body 10 z.natAbs).getD 0 0 = 48) ↔ z = 0 := by
    constructor
    · intro h
      have : (body 10 z.natAbs).head? = some 48 := by
        rw [List.head?_eq_getElem?, List.getElem?_eq_getElem hpos]
        rw [List.getD_eq_getElem?_getD, List.getElem?_eq_getElem hpos] at h
        exact congrArg some h
      have := body_head _ this
      omega
    · intro h; subst h; rfl
  have HF : Hid (∀ r w', sgI z = r → Below w.heap.size w w' → (fun en w' => en = .returned (.int .i64 (sgI z)) ∧ Below w.heap.size w w') (Ending.returned (.int .i64 r)) w') := fun r w' h1 h2 => ⟨by rw [h1], h2⟩
  generalize (fun (en : Ending) (w' : World) => en = .returned (.int .i64 (sgI z)) ∧ Below w.heap.size w w') = Po at *
  have hc2 : wb.cell? ⟨g, off, none⟩ = some (.int .u8 (((body 10 z.natAbs).getD 0 0).toNat : Int)) := hc
  clear hc hr hbel
  by_cases h0 : z = 0
  · have e48 : ((((body 10 z.natAbs).getD 0 0).toNat : Int) == 48) = true := by rw [hh.2 h0]; rfl
    have hfin := Lib.hid (HF.out 0 wb (by rw [h0]; rfl) hb.out)
    clear HF hh h0
    generalize ((body 10 z.natAbs).getD 0 0).toNat = d at *
    generalize (body 10 z.natAbs).length = bl at *
    generalize neg z = b at *
    go_enter Tryz.func77, Tryz.ntmps77
    go_wp2
    exact hfin.out
  · have e48 : ((((body 10 z.natAbs).getD 0 0).toNat : Int) == 48) = false := by
      rw [beq_eq_false_iff_ne]
      intro g
      exact h0 (hh.1 (UInt8.toNat_inj.1 (by have : (48 : UInt8).toNat = 48 := rfl; omega)))
    have hs1 : sgI z = if neg z = true then -1 else 1 := by
      unfold sgI neg
      by_cases h : z < 0
      · rw [if_pos h, decide_eq_true h, if_pos rfl]
      · rw [if_neg h, decide_eq_false h, if_pos (by omega), if_neg (by decide)]
    rw [hs1] at HF
    clear hh h0 hs1
    generalize ((body 10 z.natAbs).getD 0 0).toNat = d at *
    generalize (body 10 z.natAbs).length = bl at *
    generalize neg z = b at *
    cases b with
    | true =>
      have hfin := Lib.hid (HF.out (-1) wb rfl hb.out)
      clear HF
      go_enter Tryz.func77, Tryz.ntmps77
      go_wp2
      exact hfin.out
    | false =>
      have hfin := Lib.hid (HF.out 1 wb rfl hb.out)
      clear HF
      go_enter Tryz.func77, Tryz.ntmps77
      go_wp2
      exact hfin.out
end Go.Proofs.YtpankmaljafnnaaGreatDoor
