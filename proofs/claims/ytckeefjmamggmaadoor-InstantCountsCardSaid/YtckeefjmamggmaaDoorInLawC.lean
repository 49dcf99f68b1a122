/-
  Helper: the walk of the statement InstantCounts.
-/
import Derived.Test.YtckeefjmamggmaaDoorInCn
namespace Go.Proofs.YtckeefjmamggmaaDoor
open Go.RowKit
set_option linter.unusedVariables false
set_option linter.unusedSimpArgs false

abbrev isRowB : TypeDesc → Bool
  | .struct _ | .array _ _ => true
  | _ => false
/-- a whole struct is loaded behind a guard that lets it -/
theorem load_rowG {w : World} {ops : Array Oper} {rest : List Oper} {o : Oper} {a : Act} {Q : Exit → Act → World → Prop} (hw : Region.wanted o (yielded ops a.tmps) = true) (ty : TypeId) (x : Operand) (ho : o.op = .load ty x)
    (g : Nat) (hx : a.eval x = .pointer (some ⟨g, 0, none⟩)) (t : TypeId) (cs : Array Value) (fr : Nat × Nat) (d : TypeDesc) (hg : w.heap[g]? = some (.cells cs t fr))
    (hu : Tryd.prog.underlying ty = some d) (hd : isRowB d = true) (hi : (Tryd.prog.info? ty).map (·.size) = some cs.size)
    (h : wpList Tryd.prog ops Q rest (a.put o.dst (.agg cs)) w) : wpList Tryd.prog ops Q (o :: rest) a w :=
  wpList_step fun K hK => by rw [if_pos hw]; exact wp_load_row ty x ho g hx t cs fr d hg hu (by cases d <;> first | rfl | cases hd) hi (hK _ _ h)
theorem can_no (s : ByteArray) (h : ¬ InsR (momF (rd s.data.toList)) s 0) : secF s = (0, 0, 3) := by
  unfold secF secG
  rw [if_neg]
  rintro ⟨a, b⟩
  refine h ?_
  unfold InsR
  rw [if_pos a]; exact b
theorem can_sec (s : ByteArray) (n : Int) (k : Nat) (h : momF (rd s.data.toList) = (n, k, 0)) (h2 : OfR n k s 0) : secF s = (n, k, 0) := by
  unfold secF secG
  rw [h, if_pos ⟨rfl, h2⟩]
def SecT (T : RT) (n : Int) : Prop := ∀ W, Calls Tryd.prog 16 #[.agg T.v.toArray] W fun e w' => e = .returned (.int .i64 n) ∧ Below W.heap.size W w'
set_option maxHeartbeats 1000000 in
theorem can_yes (s : ByteArray) (h0 : InsR (momF (rd s.data.toList)) s 0) : ∃ (T : RT) (n : Int) (j : Nat), (readR s.data.toList).1 = T ∧ T.na = (j : Int) ∧ secF s = (n, j, 0) ∧ OfR n j s 0 ∧ SecT T n := by
  have no : momF (rd s.data.toList) = (0, 0, 3) → False := fun g => by
    rw [g] at h0; unfold InsR at h0
    rw [if_neg (by decide)] at h0
    exact absurd h0.2 (by decide)
  rcases cls s.data.toList with ⟨h, h2⟩ | ⟨y, m, d, hy, hm, hd, h1, h2⟩ | ⟨h, i, k, na, hh, hi, hk, hn, h1, h2⟩ | ⟨y, m, d, h, i, k, na, hy, hm, hd, hh, hi, hk, hn, h1, h2⟩ | ⟨y, m, d, h, i, k, na, v1, v2, zo, hy, hm, hd, hh, hi, hk, hn, hz, hv, hv2, h1, h2⟩
  · refine (no (momNo _ ?_)).elim
    rcases h with h | h
    · exact .inl h
    · exact .inr (.inl (by omega))
  · exact (no (momNo _ (by rw [h1]; exact .inr (.inr rfl)))).elim
  · exact (no (momNo _ (by rw [h1]; exact .inr (.inr rfl)))).elim
  · exact (no (momNo _ (by rw [h1]; exact .inr (.inr rfl)))).elim
  · have hmom : momF (rd s.data.toList) = if dtOk y m d ∧ tmOk (decide (23 < (v1 : Int) ∨ 59 < (v2 : Int))) h i k then (sec [y, m, d, h, i, k, v1, v2] zo, na, 0) else (0, 0, 13) := by
      rw [h1]; unfold momF
      rw [if_pos ⟨rfl, rfl, hz⟩]
      by_cases c : dtOk y m d ∧ tmOk (decide (23 < (v1 : Int) ∨ 59 < (v2 : Int))) h i k
      · rw [if_pos c, if_pos ((irIff y m d h i k v1 v2 zo hy).2 c)]
      · rw [if_neg c, if_neg (fun g => c ((irIff y m d h i k v1 v2 zo hy).1 g))]
    have hT : tOf 3 [y, m, d, h, i, k, v1, v2] na zo = ⟨true, true, true, (y : Int), (m : Int), (d : Int), (h : Int), (i : Int), (k : Int), (na : Int), if zo = 45 then -(3600 * (v1 : Int) + 60 * (v2 : Int)) else 3600 * (v1 : Int) + 60 * (v2 : Int), decide (23 < (v1 : Int) ∨ 59 < (v2 : Int))⟩ := by
      unfold tOf
      rw [decide_eq_true hz]
      rfl
    rw [hT] at h2
    have hoff : -400000 ≤ (if zo = 45 then -(3600 * (v1 : Int) + 60 * (v2 : Int)) else 3600 * (v1 : Int) + 60 * (v2 : Int)) ∧ (if zo = 45 then -(3600 * (v1 : Int) + 60 * (v2 : Int)) else 3600 * (v1 : Int) + 60 * (v2 : Int)) ≤ 400000 := by
      split <;> omega
    have hsec : sec [y, m, d, h, i, k, v1, v2] zo = 86400 * dn y m d + 3600 * (h : Int) + 60 * (i : Int) + (k : Int) - (if zo = 45 then -(3600 * (v1 : Int) + 60 * (v2 : Int)) else 3600 * (v1 : Int) + 60 * (v2 : Int)) := by
      unfold sec
      split
      · rename_i c
        show dn y m d * 86400 + (3600 * (h : Int) + 60 * (i : Int) + (k : Int) - -(3600 * (v1 : Int) + 60 * (v2 : Int))) = _
        omega
      · rename_i c
        show dn y m d * 86400 + (3600 * (h : Int) + 60 * (i : Int) + (k : Int) - (3600 * (v1 : Int) + 60 * (v2 : Int))) = _
        omega
    generalize (if zo = 45 then -(3600 * (v1 : Int) + 60 * (v2 : Int)) else 3600 * (v1 : Int) + 60 * (v2 : Int)) = off at *
    generalize decide (23 < (v1 : Int) ∨ 59 < (v2 : Int)) = late at *
    by_cases c : dtOk y m d ∧ tmOk late h i k
    · rw [if_pos c] at hmom
      obtain ⟨⟨c1, c2, c3, c4⟩, c5, c6, c7, c8⟩ := c
      have hml := (ml_bound (leap (y : Int)) m).2
      have hI : IsD (y : Int) (m : Int) (d : Int) := ⟨by omega, by omega, by omega, by omega, by omega, c4⟩
      have hdb := dn_bound _ _ _ hI
      have ho : OfR (sec [y, m, d, h, i, k, v1, v2] zo) na s 0 := by
        rw [hmom] at h0; unfold InsR at h0; rw [if_pos rfl] at h0; exact h0
      refine ⟨_, sec [y, m, d, h, i, k, v1, v2] zo, na, by rw [h2], rfl, can_sec s _ _ hmom ho, ho, fun W => ?_⟩
      rw [hsec]
      exact rsec_any _ y m d h i k rfl rfl rfl rfl rfl rfl hy c1 c2 (by omega) (by omega) (by omega) (by omega) hoff.1 hoff.2 (by omega) (by omega) W
    · rw [if_neg c] at hmom
      rw [hmom] at h0; unfold InsR at h0
      rw [if_neg (by decide)] at h0
      exact absurd h0.2 (by decide)
set_option maxRecDepth 100000 in
set_option maxHeartbeats 8000000 in
theorem walkInstantCounts (w : World) (hT : Tabs w) (s : ByteArray) (hs : s.size ≤ maxLen) : Calls Tryd.prog 5 #[.string s] w (BoolW true w) := by
  have HA := Lib.hid (awake_any w hT)
  unfold BoolW at HA
  have HT : Hid (∀ W, Below w.heap.size w W → Tabs W) := fun W hb => hT.below hb hT.1
  have HF : Hid (∀ w', Below w.heap.size w w' → BoolW true w (.returned (.bool true)) w') := fun w' h => ⟨rfl, h⟩
  generalize BoolW true w = Po at *
  clear hT
  unfold maxLen at hs
  by_cases la : 200 < s.size
  · have la2 : (200 : Int) < (s.size : Int) := by omega
    go_enter Tryd.func5, Tryd.ntmps5
    go_wp2_with fail
    refine HA.out.mono ?_
    rintro e w1 ⟨rfl, hb1⟩
    have hfin := Lib.hid (HF.out _ hb1)
    clear hb1
    go_wp2
    exact hfin.out
  have la3 : ¬ (200 : Int) < (s.size : Int) := by omega
  have H1 := Lib.hid (fun W hW => Seconds_any s W hW (by omega))
  have H2 := Lib.hid (fun W => rcan_any s (by omega) W)
  have hzT := zeroT
  clear hs la
  by_cases hI : InsR (momF (rd s.data.toList)) s 0
  · obtain ⟨T, n, j, e1, e2, e3, e4, e5⟩ := can_yes s hI
    have H2a : Hid (∀ W, Calls Tryd.prog 14 #[.string s] W fun e w' => e = .returned (.tuple #[.agg T.v.toArray, .bool true]) ∧ Below W.heap.size W w') := fun W => (H2.out W).mono fun e w' h => by
      rcases h with ⟨hb, ⟨_, he⟩ | ⟨hn, _⟩⟩
      · exact ⟨by rw [he, e1], hb⟩
      · exact absurd hI hn
    have HO := Lib.hid (fun W hW => of_all n (j : Int) W hW)
    unfold OfP at HO
    have HDet : Hid (∀ t en, OfR n j t en → t = s ∧ en = 0) := fun t en h => h.det e4
    have HS : Hid (∀ W, Calls Tryd.prog 16 #[.agg T.v.toArray] W fun e w' => e = .returned (.int .i64 n) ∧ Below W.heap.size W w') := e5
    rw [e3] at H1
    replace H1 : Hid (∀ W, Tabs W → Calls Tryd.prog 13 #[.string s] W fun e' w' => e' = .returned (.tuple #[.int .i64 n, .int .i64 j, .int .i64 0]) ∧ Below W.heap.size W w') := H1
    clear H2 hI e1 e3 e4 e5
    have hna := Lib.hid e2
    clear e2
    go_enter Tryd.func5, Tryd.ntmps5
    go_wp2_with fail
    refine HA.out.mono ?_
    rintro e w1 ⟨rfl, hb1⟩
    have hB1 : Hid (Below w.heap.size w w1) := hb1
    clear hb1
    go_wp2_with fail
    refine (H1.out _ (HT.out _ hB1.out)).mono ?_
    rintro e w2 ⟨rfl, hb2⟩
    have hB2 := bt hB1 hb2
    clear hb2
    go_wp2_with fail
    refine (H2a.out _).mono ?_
    rintro e w3 ⟨rfl, q3⟩
    have hB3 := bt hB2 q3
    obtain ⟨M, W2, hM, hW2, c0, c1, hbl⟩ := tbox w3 T
    have C0 := Lib.hid c0
    have C1 := Lib.hid c1
    have hB4 := Lib.hid (hbl _ _ hB3.out (by have := hB3.out.size; omega))
    have HT4 := Lib.hid (HT.out _ hB4.out)
    clear q3 c0 c1 hbl hB3 H1 H2a
    go_upto_region 7 with (refine wpList_store_row rfl 30 (.tmp 6) (.tmp 24) rfl M _ rfl rfl 30 _ C0.out (rt_i T) (rt_z _ T) (rt_one T) ?_)
    generalize W2.setRow M T.v.toArray = wc at *
    clear C0 hM hW2
    go_wp2_with fail
    refine (HO.out _ HT4.out).mono ?_
    rintro e w5 ⟨t, en, hof, rfl, q5⟩
    obtain ⟨rfl, rfl⟩ := HDet.out _ _ hof
    have hB5 := bt hB4 q5
    have C5 := Lib.hid (C1.out.go q5 C1.out.lt)
    clear q5 hB4 C1 HO HDet hof HT4
    go_wp2_with (refine load_rowG (by rfl) 30 (.tmp 6) rfl M rfl 30 _ _ _ C5.out Tryd.underlying30 rfl (rt_i T) ?_)
    refine (HS.out _).mono ?_
    rintro e w6 ⟨rfl, q6⟩
    have hfin := Lib.hid (HF.out _ (bt hB5 q6).out)
    have C6 := Lib.hid (C5.out.go q6 C5.out.lt)
    have c9 := C6.out.cell 9 (.int .i64 T.na) rfl
    rw [hna.out] at c9
    clear q6 hB5 C5 HS C6
    go_wp2
    exact hfin.out
  · have H2a : Hid (∀ W, Calls Tryd.prog 14 #[.string s] W fun e w' => e = .returned (.tuple #[.agg RT.zero.v.toArray, .bool false]) ∧ Below W.heap.size W w') := fun W => (H2.out W).mono fun e w' h => by
      rcases h with ⟨hb, ⟨hi, he⟩ | ⟨hn, he⟩⟩
      · exact absurd hi hI
      · exact ⟨he, hb⟩
    rw [can_no s hI] at H1
    replace H1 : Hid (∀ W, Tabs W → Calls Tryd.prog 13 #[.string s] W fun e' w' => e' = .returned (.tuple #[.int .i64 0, .int .i64 0, .int .i64 3]) ∧ Below W.heap.size W w') := H1
    clear H2 hI
    go_enter Tryd.func5, Tryd.ntmps5
    go_wp2_with fail
    refine HA.out.mono ?_
    rintro e w1 ⟨rfl, hb1⟩
    have hB1 : Hid (Below w.heap.size w w1) := hb1
    clear hb1
    go_wp2_with fail
    refine (H1.out _ (HT.out _ hB1.out)).mono ?_
    rintro e w2 ⟨rfl, hb2⟩
    have hB2 := bt hB1 hb2
    clear hb2
    go_wp2_with fail
    refine (H2a.out _).mono ?_
    rintro e w3 ⟨rfl, q3⟩
    have hB3 := bt hB2 q3
    obtain ⟨M, W2, hM, hW2, c0, c1, hbl⟩ := tbox w3 RT.zero
    have C0 := Lib.hid c0
    have hfin := Lib.hid (HF.out _ (hbl _ _ hB3.out (by have := hB3.out.size; omega)))
    clear q3 c0 c1 hbl hB3 H1 H2a
    go_wp2_with (refine wpList_store_row rfl 30 (.tmp 6) (.tmp 24) rfl M _ rfl rfl 30 _ C0.out (rt_i RT.zero) (rt_z _ RT.zero) (rt_one RT.zero) ?_)
    exact hfin.out
end Go.Proofs.YtckeefjmamggmaaDoor
