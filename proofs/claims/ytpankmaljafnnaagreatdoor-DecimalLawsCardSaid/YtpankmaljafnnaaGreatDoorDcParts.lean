/-
  Helper: the walk of decimal.Parts.
-/
import Derived.Test.YtpankmaljafnnaaGreatDoorDcOf
namespace Go.Proofs.YtpankmaljafnnaaGreatDoor
open Go.RowKit
set_option linter.unusedVariables false
set_option linter.unusedSimpArgs false

theorem results3 {fn : Func} {a b c : Tmp} (h : fn.results = #[.tmp a, .tmp b, .tmp c]) (tmps : Array Value) (w : World) : (results fn tmps).run Tryz.prog w = .ok (.tuple #[tmps.getD a undef, tmps.getD b undef, tmps.getD c undef]) w := by
  simp [results, h]
theorem sgnB_all (z : Int) : sgnB (neg z) (mkB (body 10 z.natAbs)) = mkB (T z) := by
  by_cases h : z = 0
  · subst h; rfl
  · have := sgnB_T (neg z) z.natAbs (by omega)
    rw [zi_self] at this
    exact this
set_option maxRecDepth 100000 in
set_option maxHeartbeats 2000000 in
theorem Parts_of (s : ByteArray) (ok1 : Bool) (z x : Int) (H1 : Hid (∀ w, Tabs w → Calls Tryz.prog 43 #[.string s] w (RdG ok1 z x w))) (C1 : Hid (ok1 = true → Cn z x)) (w : World) (hT0 : Tabs w) :
    Calls Tryz.prog 16 #[.string s] w (fun en w' => en = .returned (if ok1 then .tuple #[.string (mkB (T z)), .int .i64 x, .int .i64 0] else .tuple #[.string ⟨#[]⟩, .int .i64 0, .int .i64 3]) ∧ Below w.heap.size w w') := by
  have hT := Lib.hid hT0
  clear hT0
  have HF : Hid (∀ r w', (if ok1 then Value.tuple #[.string (mkB (T z)), .int .i64 x, .int .i64 0] else .tuple #[.string ⟨#[]⟩, .int .i64 0, .int .i64 3]) = r → Below w.heap.size w w' → (fun (en : Ending) (w' : World) => en = .returned (if ok1 then .tuple #[.string (mkB (T z)), .int .i64 x, .int .i64 0] else .tuple #[.string ⟨#[]⟩, .int .i64 0, .int .i64 3]) ∧ Below w.heap.size w w') (Ending.returned r) w') := fun r w' g1 g2 => ⟨by rw [g1], g2⟩
  generalize (fun (en : Ending) (w' : World) => en = .returned (if ok1 then .tuple #[.string (mkB (T z)), .int .i64 x, .int .i64 0] else .tuple #[.string ⟨#[]⟩, .int .i64 0, .int .i64 3]) ∧ Below w.heap.size w w') = Po at *
  go_enter Tryz.func16, Tryz.ntmps16
  go_wp2_with fail
  refine (H1.out w hT.out).mono ?_
  rintro en w1 ⟨b1, a1, n1, k1, e1, rfl, h1, q1⟩
  have h1h := Lib.hid h1
  have q1h := Lib.hid q1
  clear h1 q1 H1
  obtain ⟨G1, hG1⟩ : ∃ G, w1.heap.size = G := ⟨_, rfl⟩
  obtain ⟨wk, hwk⟩ : ∃ wk, w1.alloc (.cells #[.bool b1, .slice a1 n1 k1, .int .i64 e1] 61) = wk := ⟨_, rfl⟩
  have qk : Hid (Below w1.heap.size w1 wk) := by rw [← hwk]; exact (Below.refl _ w1).alloc (Nat.le_refl _) _
  have hBk : Hid (Blk wk G1 61 (nvl b1 a1 n1 k1 e1)) := by rw [← hwk, ← hG1]; exact Blk.new w1 _ _
  have q2 : Hid (Below w.heap.size w wk) := q1h.out.trans (qk.out.mono q1h.out.size)
  cases ok1 with
  | false =>
    have hfin := Lib.hid (HF.out (.tuple #[.string ⟨#[]⟩, .int .i64 0, .int .i64 3]) wk rfl q2.out)
    clear HF h1h C1 hBk q2 qk q1h
    go_wp2
    exact bodyPost_ret (v := .tuple #[.string ⟨#[]⟩, .int .i64 0, .int .i64 3]) (results3 (a := 2) (b := 3) (c := 4) rfl _ _) rfl hfin.out
  | true =>
    obtain ⟨r1, r2, r3, r4, r5⟩ := h1h.out rfl
    obtain ⟨y1, y2, y3, y4⟩ := C1.out rfl
    subst r1 r2 r3
    have hrk : Rb wk a1 (body 10 z.natAbs) := r5.go qk.out
    have hcv : Hid (∀ V, Below wk.heap.size wk V → (convert 59 9 (.slice a1 (body 10 z.natAbs).length k1)).run Tryz.prog V = .ok (.string (mkB (body 10 z.natAbs))) V) := fun V h => conv_str (hrk.go h) k1 (body_ne 10 _ (by omega))
    have HSg := Lib.hid (fun V => signed_any (neg z) (mkB (body 10 z.natAbs)) (by rw [mkB_size]; omega) V)
    rw [sgnB_all] at HSg
    have HF2 : Hid (∀ w', Below w.heap.size w w' → Po (.returned (.tuple #[.string (mkB (T z)), .int .i64 e1, .int .i64 0])) w') := fun w' g => HF.out _ w' rfl g
    generalize (body 10 z.natAbs).length = n1 at *
    have c0 := hBk.out.cell 0 (.bool (neg z)) rfl
    have c1 := hBk.out.cell 1 (.slice a1 n1 k1) rfl
    have c2 := hBk.out.cell 2 (.int .i64 e1) rfl
    generalize mkB (body 10 z.natAbs) = D at *
    generalize mkB (T z) = R at *
    clear r4 r5 y1 y2 y3 y4 hBk h1h C1 HF q1h qk hT hrk
    generalize neg z = b1 at *
    have hcd := hcv.out wk.drew (Below.refl _ wk).drew
    have hfin := Lib.hid (HF2.out wk.drew q2.out.drew)
    clear HF2 hcv q2
    go_wp2_with fail
    go_region_law (first | (go_simp; go_at_call 44; refine (HSg.out _).mono ?_; rintro en w2 ⟨rfl, rfl⟩))
    all_goals
      go_wp2
      exact bodyPost_ret (v := .tuple #[.string R, .int .i64 e1, .int .i64 0]) (results3 (a := 2) (b := 3) (c := 4) rfl _ _) rfl hfin.out
end Go.Proofs.YtpankmaljafnnaaGreatDoor
