/-
  Helper: the walk of decimal.Int.
-/
import Derived.Test.YtpankmaljafnnaaGreatDoorDcParts
namespace Go.Proofs.YtpankmaljafnnaaGreatDoor
open Go.RowKit
set_option linter.unusedVariables false
set_option linter.unusedSimpArgs false

theorem results2 {fn : Func} {a b : Tmp} (h : fn.results = #[.tmp a, .tmp b]) (tmps : Array Value) (w : World) : (results fn tmps).run Tryz.prog w = .ok (.tuple #[tmps.getD a undef, tmps.getD b undef]) w := by
  simp [results, h]
/-- the digits of an integer decimal -/
def intB (z x : Int) : ByteArray := sgnB (neg z) (mkB (spreadL (body 10 z.natAbs) ((body 10 z.natAbs).length + x.toNat) x.toNat))
set_option maxRecDepth 100000 in
set_option maxHeartbeats 20000000 in
theorem Int_of (s : ByteArray) (ok1 : Bool) (z x : Int) (H1 : Hid (∀ w, Tabs w → Calls Tryz.prog 43 #[.string s] w (RdG ok1 z x w))) (C1 : Hid (ok1 = true → Cn z x)) (w : World) (hT0 : Tabs w) :
    Calls Tryz.prog 35 #[.string s] w (fun en w' => en = .returned (if ok1 = true ∧ 0 ≤ x ∧ ((body 10 z.natAbs).length : Int) + x ≤ 400 then .tuple #[.string (intB z x), .bool true] else .tuple #[.string ⟨#[]⟩, .bool false]) ∧ Below w.heap.size w w') := by
  have hT := Lib.hid hT0
  clear hT0
  have HF : Hid (∀ r w', (if ok1 = true ∧ 0 ≤ x ∧ ((body 10 z.natAbs).length : Int) + x ≤ 400 then Value.tuple #[.string (intB z x), .bool true] else .tuple #[.string ⟨#[]⟩, .bool false]) = r → Below w.heap.size w w' → (fun (en : Ending) (w' : World) => en = .returned (if ok1 = true ∧ 0 ≤ x ∧ ((body 10 z.natAbs).length : Int) + x ≤ 400 then .tuple #[.string (intB z x), .bool true] else .tuple #[.string ⟨#[]⟩, .bool false]) ∧ Below w.heap.size w w') (Ending.returned r) w') := fun r w' g1 g2 => ⟨by rw [g1], g2⟩
  generalize (fun (en : Ending) (w' : World) => en = .returned (if ok1 = true ∧ 0 ≤ x ∧ ((body 10 z.natAbs).length : Int) + x ≤ 400 then .tuple #[.string (intB z x), .bool true] else .tuple #[.string ⟨#[]⟩, .bool false]) ∧ Below w.heap.size w w') = Po at *
  go_enter Tryz.func35, Tryz.ntmps35
  go_wp2_with fail
  refine (H1.out w hT.out).mono ?_
  rintro en w1 ⟨b1, a1, n1, k1, e1, rfl, h1, q1⟩
  have h1h := Lib.hid h1
  have q1h := Lib.hid q1
  clear h1 q1 H1
  obtain ⟨G1, hG1⟩ : ∃ G, w1.heap.size = G := ⟨_, rfl⟩
  obtain ⟨wk, hwk⟩ : ∃ wk, w1.alloc (.cells #[.bool b1, .slice a1 n1 k1, .int .i64 e1] 61) = wk := ⟨_, rfl⟩
  have qk : Hid (Below w1.heap.size w1 wk) := by rw [← hwk]; exact (Below.refl _ w1).alloc (Nat.le_refl _) _
  have hBk : Hid (Blk wk G1 61 (nvl b1 a1 n1 k1 e1)) := by rw [← hwk, ← hG1]; exact Blk.new w1 _ _
  have q2 : Hid (Below w.heap.size w wk) := q1h.out.trans (qk.out.mono q1h.out.size)
  cases ok1 with
  | false =>
    have hfin := Lib.hid (HF.out (.tuple #[.string ⟨#[]⟩, .bool false]) wk (if_neg (fun h => by cases h.1)) q2.out)
    clear HF h1h C1 hBk q2 qk q1h
    go_wp2
    exact hfin.out
  | true =>
    obtain ⟨r1, r2, r3, r4, r5⟩ := h1h.out rfl
    obtain ⟨y1, y2, y3, y4⟩ := C1.out rfl
    subst r1 r2 r3
    have c0 := hBk.out.cell 0 (.bool (neg z)) rfl
    have c1 := hBk.out.cell 1 (.slice a1 (body 10 z.natAbs).length k1) rfl
    have c2 := hBk.out.cell 2 (.int .i64 e1) rfl
    have hw1 : IntKind.i64.wrap (((body 10 z.natAbs).length : Int) + e1) = ((body 10 z.natAbs).length : Int) + e1 := wrapI _ (by omega) (by omega)
    by_cases hx0 : e1 < 0
    · have hfin := Lib.hid (HF.out (.tuple #[.string ⟨#[]⟩, .bool false]) wk (if_neg (fun h => by omega)) q2.out)
      clear HF h1h C1 hBk q2 qk q1h r4 r5 y1 y2 y3 y4
      generalize (body 10 z.natAbs).length = n1 at *
      go_wp2
      exact hfin.out
    · by_cases hx1 : 400 < ((body 10 z.natAbs).length : Int) + e1
      · have hfin := Lib.hid (HF.out (.tuple #[.string ⟨#[]⟩, .bool false]) wk (if_neg (fun h => by omega)) q2.out)
        clear HF h1h C1 hBk q2 qk q1h r4 r5 y1 y2 y3 y4
        generalize (body 10 z.natAbs).length = n1 at *
        go_wp2
        exact hfin.out
      · obtain ⟨j, rfl⟩ : ∃ j : Nat, e1 = (j : Int) := ⟨e1.toNat, by omega⟩
        have hHs := Lib.hid (spread_any (neg z) (body 10 z.natAbs) (j : Int) a1 k1 r4 (by omega) 0 j ((body 10 z.natAbs).length + j) (by omega) (Nat.le_refl _) (by have := List.length_pos_iff.2 (body_ne 10 z.natAbs (by omega)); omega) (by omega) (by omega) (by omega) wk.drew ((r5.go qk.out).go (Below.refl _ wk).drew))
        have HF2 : Hid (∀ w', Below w.heap.size w w' → Po (.returned (.tuple #[.string (intB z (j : Int)), .bool true])) w') := fun w' g => HF.out _ w' (if_pos ⟨rfl, by omega, by omega⟩) g
        have hlS : (spreadL (body 10 z.natAbs) ((body 10 z.natAbs).length + j) j).length = (body 10 z.natAbs).length + j := len_spread _ _ _ (Nat.le_refl _)
        unfold intB at HF2
        rw [Int.toNat_natCast] at HF2
        rw [Int.natCast_add] at hHs
        have hpl := List.length_pos_iff.2 (body_ne 10 z.natAbs (by omega))
        generalize spreadL (body 10 z.natAbs) ((body 10 z.natAbs).length + j) j = S at *
        have hcv : Hid (∀ V a c, Rb V a S → (convert 59 9 (.slice a ((body 10 z.natAbs).length + j) c)).run Tryz.prog V = .ok (.string (mkB S)) V) := fun V a c h => by
          have := conv_str h c (by intro g; rw [g] at hlS; simp at hlS; omega)
          rw [hlS] at this; exact this
        have HSg := Lib.hid (fun V => signed_any (neg z) (mkB S) (by rw [mkB_size]; omega) V)
        have HcN : Hid (∀ V, Below wk.heap.size wk V → V.cell? ⟨G1, 0, none⟩ = some (.bool (neg z))) := fun V h => (hBk.out.go h hBk.out.lt).cell 0 _ rfl
        unfold SprP at hHs
        rw [hlS] at hHs
        clear HF h1h C1 hBk qk q1h r4 r5 y1 y2 y3 y4 hlS hpl
        generalize (body 10 z.natAbs).length = n1 at *
        generalize neg z = b1 at *
        generalize mkB S = D at *
        go_wp2_with fail
        clear hwk hG1
        go_region_law (first
          | (go_simp; go_at_call 61; refine hHs.out.mono ?_; rintro en w2 ⟨g, rfl, u1, u2⟩; have v0 := HcN.out w2 ((Below.refl _ wk).drew.trans u2); have v1 := hcv.out w2 _ (n1 + j) u1)
          | (go_simp; go_at_call 44; refine (HSg.out _).mono ?_; rintro en w3 ⟨rfl, rfl⟩))
        all_goals
          have hfin := Lib.hid (HF2.out w2 (q2.out.trans (((Below.refl _ wk).drew.trans u2).mono q2.out.size)))
          go_wp2
          exact bodyPost_ret (v := .tuple #[.string (sgnB b1 D), .bool true]) (results2 (a := 2) (b := 3) rfl _ _) rfl hfin.out
end Go.Proofs.YtpankmaljafnnaaGreatDoor
