/-
  Helper: the walk of decimal.Round.
-/
import Derived.Test.YtpankmaljafnnaaGreatDoorDcApi1
namespace Go.Proofs.YtpankmaljafnnaaGreatDoor
open Go.RowKit
set_option linter.unusedVariables false
set_option linter.unusedSimpArgs false

/-- a decimal rounded to units of 10 ^ ex -/
def rndZ (z e ex : Int) : Int := if ex ≤ e then z else zi (neg z) (numv ((body 10 z.natAbs).take (max (((body 10 z.natAbs).length : Int) - (ex - e)) 0).toNat) + (if rupV (body 10 z.natAbs) (((body 10 z.natAbs).length : Int) - (ex - e)) then 1 else 0))
def rndE (e ex : Int) : Int := if ex ≤ e then e else ex
theorem rnd_both (z e ex : Int) (a : Option Addr) (cap : Nat) (hcap : (body 10 z.natAbs).length ≤ cap) (hl : (body 10 z.natAbs).length ≤ 5000) (h1 : -10000 ≤ e) (h2 : e ≤ 10000) (h3 : -10000 ≤ ex) (h4 : ex ≤ 10000) (w : World) (hr : Rb w a (body 10 z.natAbs)) :
    Calls Tryz.prog 60 #[.agg (nvl (neg z) a (body 10 z.natAbs).length cap e).toArray, .int .i64 ex] w (PluP (rndZ z e ex) (rndE e ex) w) := by
  unfold rndZ rndE
  by_cases h : ex ≤ e
  · rw [if_pos h, if_pos h]
    have := rnd_same (neg z) (body 10 z.natAbs) e a cap ex hcap hl (body_AD _) h w hr
    rw [numv_body, zi_self] at this
    exact this
  · rw [if_neg h, if_neg h]
    exact rnd_any (neg z) (body 10 z.natAbs) e a cap ex hcap hl (body_AD _) h1 h2 h3 h4 (by omega) w hr
set_option maxRecDepth 100000 in
set_option maxHeartbeats 2000000 in
theorem Round_of (s : ByteArray) (ok1 : Bool) (z x p : Int) (hp1 : -32768 ≤ p) (hp2 : p ≤ 32767) (H1 : Hid (∀ w, Tabs w → Calls Tryz.prog 43 #[.string s] w (RdG ok1 z x w))) (C1 : Hid (ok1 = true → Cn z x)) (w : World) (hT0 : Tabs w) :
    Calls Tryz.prog 34 #[.string s, .int .i64 p] w (TxP (if ok1 then (if p < -2000 ∨ 2000 < p then (⟨#[]⟩, 1) else outD (rndZ z x (-p)) (rndE x (-p))) else (⟨#[]⟩, 3)) w) := by
  have hT := Lib.hid hT0
  clear hT0
  have HF : Hid (∀ r w', (if ok1 then (if p < -2000 ∨ 2000 < p then (⟨#[]⟩, 1) else outD (rndZ z x (-p)) (rndE x (-p))) else (⟨#[]⟩, 3)) = r → Below w.heap.size w w' → TxP (if ok1 then (if p < -2000 ∨ 2000 < p then (⟨#[]⟩, 1) else outD (rndZ z x (-p)) (rndE x (-p))) else (⟨#[]⟩, 3)) w (Ending.returned (.tuple #[.string r.1, .int .i64 r.2])) w') := fun r w' g1 g2 => ⟨by rw [g1], g2⟩
  generalize TxP (if ok1 then (if p < -2000 ∨ 2000 < p then (⟨#[]⟩, 1) else outD (rndZ z x (-p)) (rndE x (-p))) else (⟨#[]⟩, 3)) w = Po at *
  go_enter Tryz.func34, Tryz.ntmps34
  go_wp2_with fail
  refine (H1.out w hT.out).mono ?_
  rintro en w1 ⟨b1, a1, n1, k1, e1, rfl, h1, q1⟩
  have h1h := Lib.hid h1
  have q1h := Lib.hid q1
  clear h1 q1 H1
  obtain ⟨G1, hG1⟩ : ∃ G, w1.heap.size = G := ⟨_, rfl⟩
  obtain ⟨wk, hwk⟩ : ∃ wk, w1.alloc (.cells #[.bool b1, .slice a1 n1 k1, .int .i64 e1] 61) = wk := ⟨_, rfl⟩
  have qk : Hid (Below w1.heap.size w1 wk) := by rw [← hwk]; exact (Below.refl _ w1).alloc (Nat.le_refl _) _
  have hBk : Hid (Blk wk G1 61 (nvl b1 a1 n1 k1 e1)) := by rw [← hwk, ← hG1]; exact Blk.new w1 _ _
  have q2 : Hid (Below w.heap.size w wk) := q1h.out.trans (qk.out.mono q1h.out.size)
  have hTk : Hid (Tabs wk) := hT.out.go q2.out
  cases ok1 with
  | false =>
    have hfin := Lib.hid (HF.out (⟨#[]⟩, 3) wk rfl q2.out)
    clear HF h1h C1 hBk hTk q2 qk q1h
    go_wp2
    exact hfin.out
  | true =>
    by_cases hlo : p < -2000
    · have hfin := Lib.hid (HF.out (⟨#[]⟩, 1) wk (by rw [if_pos rfl, if_pos (.inl hlo)]) q2.out)
      clear HF h1h C1 hBk hTk q2 qk q1h
      go_wp2
      exact hfin.out
    · by_cases hhi : 2000 < p
      · have hfin := Lib.hid (HF.out (⟨#[]⟩, 1) wk (by rw [if_pos rfl, if_pos (.inr hhi)]) q2.out)
        clear HF h1h C1 hBk hTk q2 qk q1h
        go_wp2
        exact hfin.out
      · obtain ⟨r1, r2, r3, r4, r5⟩ := h1h.out rfl
        obtain ⟨y1, y2, y3, y4⟩ := C1.out rfl
        subst r1 r2 r3
        have hc := Lib.hid (rnd_both z e1 (-p) a1 k1 r4 (by omega) (by omega) (by omega) (by omega) (by omega) wk (r5.go qk.out))
        have HF2 : Hid (∀ w', Below w.heap.size w w' → Po (.returned (.tuple #[.string (outD (rndZ z e1 (-p)) (rndE e1 (-p))).1, .int .i64 (outD (rndZ z e1 (-p)) (rndE e1 (-p))).2])) w') := fun w' g => HF.out _ w' (by rw [if_pos rfl, if_neg (by omega)]) g
        have hE1 : Hid (-2000 ≤ rndE e1 (-p) ∧ rndE e1 (-p) ≤ 2000) := by
          show _ ∧ _
          unfold rndE; split <;> omega
        generalize (body 10 z.natAbs).length = n1 at *
        have c0 := hBk.out.cell 0 (.bool (neg z)) rfl
        have c1 := hBk.out.cell 1 (.slice a1 n1 k1) rfl
        have c2 := hBk.out.cell 2 (.int .i64 e1) rfl
        clear r4 r5 y1 y2 y3 y4 hBk h1h C1 HF q1h qk hT
        generalize rndZ z e1 (-p) = Z at *
        generalize rndE e1 (-p) = E at *
        generalize neg z = b1 at *
        go_wp2_with fail
        clear hwk hG1 c0 c1 c2
        refine hc.out.mono ?_
        rintro en w3 ⟨b, S, a, c, rfl, u1, u2, u3, u4, u5, u6⟩
        have hx := text_any b S u3 (by omega) E (by have := hE1.out.1; omega) (by have := hE1.out.2; omega) a c u1 w3 u5 (hTk.out.go u6)
        rw [u4] at hx
        have hxh := Lib.hid hx
        have q6 : Hid (Below w.heap.size w w3) := q2.out.trans (u6.mono q2.out.size)
        clear hc u1 u2 u3 u4 u5 u6 hx hTk q2 hE1
        unfold TxP at hxh
        generalize S.length = m at *
        go_wp2_with fail
        refine hxh.out.mono ?_
        rintro en w4 ⟨rfl, q7⟩
        have hfin := Lib.hid (HF2.out w4 (q6.out.trans (q7.mono q6.out.size)))
        clear HF2 q6 q7 hxh
        go_wp2
        exact hfin.out
end Go.Proofs.YtpankmaljafnnaaGreatDoor
