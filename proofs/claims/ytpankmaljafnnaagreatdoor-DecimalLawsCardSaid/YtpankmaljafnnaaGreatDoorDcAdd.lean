/-
  Helper: the walk of decimal.calculate with plus.
-/
import Derived.Test.YtpankmaljafnnaaGreatDoorDcCmpA
namespace Go.Proofs.YtpankmaljafnnaaGreatDoor
open Go.RowKit
set_option linter.unusedVariables false
set_option linter.unusedSimpArgs false

/-- the sum of two decimals, in units of the lesser exponent -/
def addZ (z1 e1 z2 e2 : Int) : Int := z1 * ((10 ^ (e1 - min e1 e2).toNat : Nat) : Int) + z2 * ((10 ^ (e2 - min e1 e2).toNat : Nat) : Int)
set_option maxRecDepth 100000 in
set_option maxHeartbeats 1000000 in
theorem calcAdd_of (s t : ByteArray) (ok1 ok2 : Bool) (z1 x1 z2 x2 : Int) (H1 : Hid (∀ w, Tabs w → Calls Tryz.prog 43 #[.string s] w (RdG ok1 z1 x1 w))) (H2 : Hid (∀ w, Tabs w → Calls Tryz.prog 43 #[.string t] w (RdG ok2 z2 x2 w))) (C1 : Hid (ok1 = true → Cn z1 x1)) (C2 : Hid (ok2 = true → Cn z2 x2)) (w : World) (hT0 : Tabs w) :
    Calls Tryz.prog 54 #[.string s, .string t, .func (.func 55) #[] #[]] w (TxP (if ok1 && ok2 then outD (addZ z1 x1 z2 x2) (min x1 x2) else (⟨#[]⟩, 3)) w) := by
  have hT := Lib.hid hT0
  clear hT0
  have HF : Hid (∀ r w', (if ok1 && ok2 then outD (addZ z1 x1 z2 x2) (min x1 x2) else (⟨#[]⟩, 3)) = r → Below w.heap.size w w' → TxP (if ok1 && ok2 then outD (addZ z1 x1 z2 x2) (min x1 x2) else (⟨#[]⟩, 3)) w (Ending.returned (.tuple #[.string r.1, .int .i64 r.2])) w') := fun r w' g1 g2 => ⟨by rw [g1], g2⟩
  generalize TxP (if ok1 && ok2 then outD (addZ z1 x1 z2 x2) (min x1 x2) else (⟨#[]⟩, 3)) w = Po at *
  go_enter Tryz.func54, Tryz.ntmps54
  go_wp2_with fail
  refine (H1.out w hT.out).mono ?_
  rintro en w1 ⟨b1, a1, n1, k1, e1, rfl, h1, q1⟩
  have h1h := Lib.hid h1
  have q1h := Lib.hid q1
  clear h1 q1 H1
  obtain ⟨G1, hG1⟩ : ∃ G, w1.heap.size = G := ⟨_, rfl⟩
  obtain ⟨wk, hwk⟩ : ∃ wk, w1.alloc (.cells #[.bool b1, .slice a1 n1 k1, .int .i64 e1] 61) = wk := ⟨_, rfl⟩
  have qk : Hid (Below w1.heap.size w1 wk) := by rw [← hwk]; exact (Below.refl _ w1).alloc (Nat.le_refl _) _
  have hBk : Hid (Blk wk G1 61 (nvl b1 a1 n1 k1 e1)) := by rw [← hwk, ← hG1]; exact Blk.new w1 _ _
  have q2 : Hid (Below w.heap.size w wk) := q1h.out.trans (qk.out.mono q1h.out.size)
  have H2k := Lib.hid (H2.out wk (hT.out.go q2.out))
  clear H2
  go_wp2_with fail
  clear hwk hG1
  refine H2k.out.mono ?_
  rintro en w2 ⟨b2, a2, n2, k2, e2, rfl, h2, q3⟩
  have h2h := Lib.hid h2
  have q3h := Lib.hid q3
  clear h2 q3 H2k
  obtain ⟨G2, hG2⟩ : ∃ G, w2.heap.size = G := ⟨_, rfl⟩
  obtain ⟨wl, hwl⟩ : ∃ wl, w2.alloc (.cells #[.bool b2, .slice a2 n2 k2, .int .i64 e2] 61) = wl := ⟨_, rfl⟩
  have ql : Hid (Below w2.heap.size w2 wl) := by rw [← hwl]; exact (Below.refl _ w2).alloc (Nat.le_refl _) _
  have hBl : Hid (Blk wl G2 61 (nvl b2 a2 n2 k2 e2)) := by rw [← hwl, ← hG2]; exact Blk.new w2 _ _
  have q4 : Hid (Below wk.heap.size wk wl) := q3h.out.trans (ql.out.mono q3h.out.size)
  have q5 : Hid (Below w.heap.size w wl) := q2.out.trans (q4.out.mono q2.out.size)
  have hBk2 := hBk.out.go q4.out hBk.out.lt
  have hTl : Hid (Tabs wl) := hT.out.go q5.out
  by_cases ho : ok1 = true ∧ ok2 = true
  · obtain ⟨o1, o2⟩ := ho
    obtain ⟨r1, r2, r3, r4, r5⟩ := h1h.out o1
    obtain ⟨s1, s2, s3, s4, s5⟩ := h2h.out o2
    obtain ⟨y1, y2, y3, y4⟩ := C1.out o1
    obtain ⟨y5, y6, y7, y8⟩ := C2.out o2
    subst o1 o2 r1 r2 r3 s1 s2 s3
    have hc := plus_any (neg z1) (neg z2) (body 10 z1.natAbs) (body 10 z2.natAbs) e1 e2 a1 a2 k1 k2 wl (body_AD _) (body_AD _) r4 s4 ((r5.go qk.out).go q4.out) (s5.go ql.out) (by omega) (by omega) (by omega) (by omega) (by omega) (by omega)
    rw [numv_body, numv_body, zi_self, zi_self] at hc
    have hc2 : Hid (Calls Tryz.prog 55 #[.agg (nvl (neg z1) a1 (body 10 z1.natAbs).length k1 e1).toArray, .agg (nvl (neg z2) a2 (body 10 z2.natAbs).length k2 e2).toArray] wl (PluP (addZ z1 e1 z2 e2) (min e1 e2) wl)) := hc
    have HF2 : Hid (∀ w', Below w.heap.size w w' → Po (.returned (.tuple #[.string (outD (addZ z1 e1 z2 e2) (min e1 e2)).1, .int .i64 (outD (addZ z1 e1 z2 e2) (min e1 e2)).2])) w') := fun w' g => HF.out _ w' rfl g
    have hE1 : Hid (-2000 ≤ min e1 e2 ∧ min e1 e2 ≤ 2000) := by constructor <;> omega
    generalize (body 10 z1.natAbs).length = n1 at *
    generalize (body 10 z2.natAbs).length = n2 at *
    have c0 := hBk2.cell 0 (.bool (neg z1)) rfl
    have c1 := hBk2.cell 1 (.slice a1 n1 k1) rfl
    have c2 := hBk2.cell 2 (.int .i64 e1) rfl
    have d0 := hBl.out.cell 0 (.bool (neg z2)) rfl
    have d1 := hBl.out.cell 1 (.slice a2 n2 k2) rfl
    have d2 := hBl.out.cell 2 (.int .i64 e2) rfl
    clear r4 r5 s4 s5 y1 y2 y3 y4 y5 y6 y7 y8 hc hBk2 hBk hBl h1h h2h C1 C2 HF q1h qk q2 q3h ql q4 hT
    generalize neg z1 = b1 at *
    generalize neg z2 = b2 at *
    generalize addZ z1 e1 z2 e2 = Z at *
    generalize min e1 e2 = E at *
    go_wp2_with fail
    clear hwl hG2 c0 c1 c2 d0 d1 d2
    refine hc2.out.mono ?_
    rintro en w3 ⟨b, S, a, c, rfl, u1, u2, u3, u4, u5, u6⟩
    have hx := text_any b S u3 (by omega) E (by have := hE1.out.1; omega) (by have := hE1.out.2; omega) a c u1 w3 u5 (hTl.out.go u6)
    rw [u4] at hx
    have hxh := Lib.hid hx
    have q6 : Hid (Below w.heap.size w w3) := q5.out.trans (u6.mono q5.out.size)
    clear hc2 u1 u2 u3 u4 u5 u6 hx hTl q5 hE1
    unfold TxP at hxh
    generalize S.length = m at *
    go_wp2_with fail
    refine hxh.out.mono ?_
    rintro en w4 ⟨rfl, q7⟩
    have hfin := Lib.hid (HF2.out w4 (q6.out.trans (q7.mono q6.out.size)))
    clear HF2 q6 q7 hxh
    go_wp2
    exact hfin.out
  · have hfalse : (ok1 && ok2) = false := by cases ok1 <;> cases ok2 <;> simp at ho ⊢
    have hfin := Lib.hid (HF.out (⟨#[]⟩, 3) wl (by rw [hfalse]; rfl) q5.out)
    clear h1h h2h C1 C2 HF hBk2 hBk hBl q1h qk q2 q3h ql q4 q5 hTl hT
    cases ok1 with
    | false =>
      clear ho hfalse
      go_wp2
      exact hfin.out
    | true =>
      cases ok2 with
      | false =>
        clear ho hfalse
        go_wp2
        exact hfin.out
      | true => exact absurd ⟨rfl, rfl⟩ ho
end Go.Proofs.YtpankmaljafnnaaGreatDoor
