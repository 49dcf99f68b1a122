/-
  Helper: the walk of the program's Date: a binary search for the year, a loop for the month.
-/
import Derived.Test.YtckeefjmamggmaaDoorJcDays
import Derived.Test.YtckeefjmamggmaaDoorShelfB
import Derived.BigQuiet
import Derived.Deep.QuietTactic
import Derived.Deep.RegionWith
namespace Go.Proofs.YtckeefjmamggmaaDoor
open Go.RowKit
set_option linter.unusedVariables false

theorem count_mono (p : Nat → Bool) (n : Nat) (hm : ∀ a b, a ≤ b → b < n → p a = true → p b = true) :
    (List.range n).countP (fun i => !p i) ≤ n ∧ (∀ i, i < (List.range n).countP (fun i => !p i) → p i = false) ∧ ((List.range n).countP (fun i => !p i) < n → p ((List.range n).countP (fun i => !p i)) = true) := by
  induction n with
  | zero => simp
  | succ n ih =>
    obtain ⟨h1, h2, h3⟩ := ih fun a b ha hb => hm a b ha (by omega)
    rw [List.range_succ, List.countP_append]
    generalize (List.range n).countP (fun i => !p i) = c at *
    cases hp : p n
    · have e : c = n := by
        by_cases h : c < n
        · have := hm c n (by omega) (by omega) (h3 h)
          rw [hp] at this; exact absurd this (by decide)
        · omega
      subst e
      simp only [List.countP_cons, List.countP_nil, hp]
      refine ⟨by simp, fun i hi => ?_, by simp⟩
      by_cases h : i = c
      · rw [h]; exact hp
      · exact h2 i (by simp at hi; omega)
    · simp only [List.countP_cons, List.countP_nil, hp]
      refine ⟨by simp; omega, fun i hi => h2 i (by simpa using hi), fun _ => ?_⟩
      simp
      by_cases h : c < n
      · exact h3 h
      · rw [show c = n by omega]; exact hp
theorem year_of (r : Int) (h0 : 0 ≤ r) (h1 : r < 3652425) : ∃ Y : Nat, (List.range 9999).countP (fun i => !decide (r < db ((i : Nat) + 1))) = Y ∧ Y ≤ 9999 ∧ db Y ≤ r ∧ r < db (Y + 1) := by
  obtain ⟨a, b, c⟩ := count_mono (fun i => decide (r < db ((i : Nat) + 1))) 9999 (fun x y hxy hy h => by
    have := db_mono (x + 1) (y + 1) (by omega)
    simp only [decide_eq_true_eq] at h ⊢
    omega)
  refine ⟨_, rfl, a, ?_, ?_⟩
  · generalize (List.range 9999).countP (fun i => !decide (r < db ((i : Nat) + 1))) = k at *
    cases k with
    | zero => have : db 0 = 0 := by decide
              show db 0 ≤ r; omega
    | succ k =>
      have := b k (by omega)
      simp only [decide_eq_false_iff_not] at this
      rw [show ((k + 1 : Nat) : Int) = k + 1 by omega]; omega
  · generalize (List.range 9999).countP (fun i => !decide (r < db ((i : Nat) + 1))) = k at *
    by_cases h : k < 9999
    · have := c h
      simpa using this
    · rw [show k = 9999 by omega]
      have : db 10000 = 3652425 := by decide
      show r < db 10000; omega

/-- a box of one integer -/
def B1 (w : World) (n : Nat) (v : Int) : Prop := w.heap[n]? = some (.cells #[.int .i64 v] 3 (0, 0))
theorem B1.facts {w : World} {n : Nat} {v : Int} (h : B1 w n v) : w.cell? ⟨n, 0, none⟩ = some (.int .i64 v) ∧ w.frozen? ⟨n, 0, none⟩ = false ∧ n < w.heap.size := by
  unfold B1 at h
  refine ⟨by simp [World.cell?, h], by simp [World.frozen?, h], (Array.getElem?_eq_some_iff.1 h).1⟩
theorem B1.set {w : World} {n : Nat} {v : Int} (h : B1 w n v) (x : Int) : B1 (w.setCell ⟨n, 0, none⟩ (.int .i64 x)) n x := by
  unfold B1 at *
  simp only [World.setCell, Array.getElem?_modify, if_true, h]
  simp
theorem B1.drewN {w : World} {n : Nat} {v : Int} (h : B1 w n v) (q : Nat) : B1 (w.drewN q) n v := h

set_option maxHeartbeats 400000 in
theorem closure_any (b : Nat) (r : Int) (W : World) (hc : W.cell? ⟨b, 0, none⟩ = some (.int .i64 r)) (i : Nat) (hi : i < 9999) :
    Calls Tryd.prog 39 (#[.int .i64 i] ++ #[.pointer (some ⟨b, 0, none⟩)]) W fun e w' => e = .returned (.bool (decide (r < db ((i : Nat) + 1)))) ∧ ∃ q, w' = W.drewN q := by
  have HD := Lib.hid (db_any ((i : Nat) + 1) (by omega) (by omega))
  generalize db ((i : Nat) + 1) = D at *
  go_enter Tryd.func39, Tryd.ntmps39
  go_wp2
  go_quiet (first | (go_at_call 37; exact Calls.quiet_of (HD.out _)))
  go_wp2
  go_ret
  exact ⟨rfl, _, rfl⟩
theorem enterD1 : ∀ args w, (callFunc 39 args).run Tryd.prog w = .ok (.enter 39 args) w := Go.Proofs.enters_of Tryd.func39 (by kernel_rfl) rfl

theorem below_grow (B : Nat) (w : World) (q : Nat) (os : Array Obj) (h : B ≤ w.heap.size) : Below B w (Go.Sort.grow (w.drewN q) os) := below_grown_sl B w q os h
theorem B1.below {B : Nat} {w w' : World} {n : Nat} {v : Int} (h : B1 w n v) (hb : Below B w w') (hn : n < B) : B1 w' n v := by
  unfold B1 at *
  rw [hb.block n hn]; exact h

theorem search_any (b : Nat) (r : Int) (h0 : 0 ≤ r) (h1 : r < 3652425) (w : World) (hb : B1 w b r) :
    ∃ Y : Nat, (Y ≤ 9999 ∧ db Y ≤ r ∧ r < db (Y + 1)) ∧ Calls Tryd.prog 38 #[.int .i64 9999, .func (.func 39) #[] #[.pointer (some ⟨b, 0, none⟩)]] w fun e w' => e = .returned (.int .i64 Y) ∧ Below w.heap.size w w' := by
  obtain ⟨Y, hY, hc⟩ := year_of r h0 h1
  refine ⟨Y, hc, ?_⟩
  have h := Any.sort_Search Tryd.search 39 #[.pointer (some ⟨b, 0, none⟩)] 9999 (fun i => decide (r < db ((i : Nat) + 1))) w enterD1 (by omega)
    (fun m os i hi => by
      have hg := below_grow w.heap.size w m os (Nat.le_refl _)
      refine (closure_any b r _ ?_ i hi).mono ?_
      · rw [hg.cell hb.facts.2.2]; exact hb.facts.1
      · rintro e w' ⟨he, q, hq⟩
        exact ⟨he, q, #[], by rw [hq, Go.Sort.grow_empty]⟩)
    (fun x y hxy hy h => by
      have := db_mono (x + 1) (y + 1) (by omega)
      simp only [decide_eq_true_eq] at h ⊢
      omega)
  rw [hY] at h
  refine h.mono ?_
  rintro e w' ⟨rfl, q, os, rfl⟩
  exact ⟨rfl, below_grow _ _ _ _ (Nat.le_refl _)⟩

theorem below_new (w : World) (q : Nat) : Below w.heap.size w (w.drewN q) := drewN_below _ _ _ (Nat.le_refl _)
theorem results_tmp4 {fn : Func} {t u v x : Tmp} (h : fn.results = #[.tmp t, .tmp u, .tmp v, .tmp x]) (tmps : Array Value) (P : Program) (w : World) :
    (results fn tmps).run P w = .ok (.tuple #[tmps.getD t undef, tmps.getD u undef, tmps.getD v undef, tmps.getD x undef]) w := by
  simp [results, h]

set_option maxHeartbeats 400000 in
theorem date_no (n : Int) (w : World) (h : n < -719528 ∨ 2932896 < n) : Calls Tryd.prog 27 #[.int .i64 n] w fun e w' => e = .returned (.tuple #[.int .i64 0, .int .i64 0, .int .i64 0, .int .i64 13]) ∧ Below w.heap.size w w' := by
  rcases h with h | h
  · go_enter Tryd.func27, Tryd.ntmps27
    go_wp2_with fail
    (try simp only [Exit.inBlock, Exit.then]); refine bodyPost_ret (results_tmp4 rfl _ _ _) rfl ?_
    exact ⟨rfl, Below.refl _ _⟩
  · have HD := Lib.hid (db_any 10000 (by omega) (by omega))
    rw [show db 10000 = 3652425 by decide] at HD
    have h2 : ¬ n < -719528 := by omega
    go_enter Tryd.func27, Tryd.ntmps27
    go_wp2_with fail
    refine (HD.out _).mono ?_
    rintro e w1 ⟨rfl, q, rfl⟩
    go_wp2_with fail
    (try simp only [Exit.inBlock, Exit.then]); refine bodyPost_ret (results_tmp4 rfl _ _ _) rfl ?_
    exact ⟨rfl, below_new _ _⟩

def DateP (n : Int) (w : World) (e : Ending) (w' : World) : Prop := ∃ y m d, IsD y m d ∧ dn y m d = n ∧ e = .returned (.tuple #[.int .i64 y, .int .i64 m, .int .i64 d, .int .i64 0]) ∧ Below w.heap.size w w'
theorem B1.new (w : World) (v : Int) : B1 (w.alloc (.cells #[.int .i64 v] 3)) w.heap.size v := heap_alloc_new w _

set_option maxRecDepth 100000 in
set_option maxHeartbeats 2000000 in
theorem date_yes (n : Int) (w : World) (hT : LTab w) (h0 : -719528 ≤ n) (h1 : n ≤ 2932896) : Calls Tryd.prog 27 #[.int .i64 n] w (DateP n w) := by
  have HD : Hid (∀ w : World, Calls Tryd.prog 37 #[.int .i64 10000] w fun e w' => e = .returned (.int .i64 3652425) ∧ (Below w.heap.size w w' ∧ w'.heap.size = w.heap.size)) := Lib.hid fun w => (db_any 10000 (by omega) (by omega) w).mono fun e w' ⟨h, q, hq⟩ => ⟨by rw [h, show db 10000 = 3652425 by decide], by subst hq; exact ⟨below_new _ _, rfl⟩⟩
  have HS := Lib.hid (fun b => search_any b (n + 719528) (by omega) (by omega))
  have HT := Lib.hid hT
  have hmf : ∀ (fn : Fn) (first cap : Array Value) (w : World), (Instr.makeFunc fn first cap).run Tryd.prog w = .ok (.func fn first cap) w := fun _ _ _ _ => rfl
  obtain ⟨Po, HPo⟩ : ∃ Po, Hid (Po = DateP n w) := ⟨_, rfl⟩
  rw [← HPo.out]
  clear hT
  have h2 : ¬ n < -719528 := by omega
  go_enter Tryd.func27, Tryd.ntmps27
  go_wp2_with fail
  refine (HD.out _).mono ?_
  rintro e w1 ⟨rfl, hb1⟩
  have HB1 := Lib.hid hb1
  clear hb1
  go_wp2_with fail
  obtain ⟨Y, hY, HC⟩ := HS.out w1.heap.size _ (B1.new w1 (n + 719528))
  obtain ⟨hY0, hY1, hY2⟩ := hY
  refine HC.mono ?_
  rintro e w2 ⟨rfl, hb2⟩
  have hbx : B1 w2 w1.heap.size (n + 719528) := (B1.new w1 (n + 719528)).below hb2 (by simp)
  have hbw : Hid (Below w.heap.size w w2 ∧ w.heap.size = w1.heap.size) := ⟨(HB1.out.1.trans ((((Below.refl _ w1).alloc (Nat.le_refl _) _).trans (hb2.mono (by simp))).mono (by rw [HB1.out.2]; exact Nat.le_refl _))), HB1.out.2.symm⟩
  clear HC HS HD hb2 HB1
  generalize w1.heap.size = b at *
  have HDY : Hid (∀ w : World, Calls Tryd.prog 37 #[.int .i64 Y] w fun e w' => e = .returned (.int .i64 (db Y)) ∧ ∃ q, w' = w.drewN q) := Lib.hid (db_any Y (by omega) (by omega))
  have hdY := db_bound Y (by omega) (by omega)
  obtain ⟨hc, hf, hlt⟩ := hbx.facts
  have HBX := Lib.hid hbx
  clear hbx
  go_wp2_with fail
  go_region_with (first | (go_at_call 37; refine (HDY.out _).mono ?_; rintro e w3 ⟨rfl, q3, rfl⟩))
  all_goals go_wp2_with fail
  all_goals
    rw [IntWalk.i64_in (n + 719528 - db Y) (by omega)]
    have hb3 : Below b w2 ((w2.drewN (1 + q3)).setCell ⟨b, 0, none⟩ (.int .i64 (n + 719528 - db Y))) := Below.setCell (drewN_below b w2 (1 + q3) (by omega)) (p := ⟨b, 0, none⟩) (Nat.le_refl _) _
    have hbx3 : B1 ((w2.drewN (1 + q3)).setCell ⟨b, 0, none⟩ (.int .i64 (n + 719528 - db Y))) b (n + 719528 - db Y) := (HBX.out.drewN _).set _
    have HB3 := Lib.hid hb3
    have HBX3 := Lib.hid hbx3
    clear hb3 hbx3 HBX hc hf
    have hTb : Hid (∀ wr, Below b w2 wr → LTab wr) := Lib.hid fun wr h => ((HT.out.below hbw.out.1 HT.out.1).below h (by rw [← hbw.out.2]; exact HT.out.1))
    obtain ⟨V, L, HL, HLB, HV1, HVS, HV13, HE⟩ : ∃ (V L : Nat → Int), Hid (∀ (m : Nat), m < 13 → ∀ (w : World), LTab w → Calls Tryd.prog 40 #[.int .i64 Y, .int .i64 m] w fun e w' => e = .returned (.int .i64 (L m)) ∧ ∃ q, w' = w.drewN q)
        ∧ Hid (∀ m : Nat, 1 ≤ m → 28 ≤ L m ∧ L m ≤ 31) ∧ Hid (V 1 = n + 719528 - db Y ∧ V 1 ≤ 366) ∧ Hid (∀ m : Nat, m ≤ 12 → V (m + 1) = V m - L m) ∧ Hid (V 13 < 0)
        ∧ Hid (∀ m : Nat, 1 ≤ m → m ≤ 12 → 0 ≤ V m → V m < L m → ∀ wr, Below b w2 wr → DateP n w (.returned (.tuple #[.int .i64 Y, .int .i64 m, .int .i64 (V m + 1), .int .i64 0])) wr) := by
      have hdbs := db_step Y
      have hyl : yl Y ≤ 366 := by unfold yl; split <;> omega
      refine ⟨fun m => n + 719528 - db Y - mb (leap Y) m, fun m => ml (leap Y) m, Lib.hid (len_any Y), Lib.hid fun m hm => ml_pos _ _ (by omega), Lib.hid ?_, Lib.hid fun m hm => ?_, Lib.hid ?_, Lib.hid fun m hm1 hm12 hv hl wr hbr => ?_⟩
      · have : mb (leap Y) 1 = 0 := by cases leap (Y : Int) <;> decide
        show n + 719528 - db Y - mb (leap Y) 1 = n + 719528 - db Y ∧ n + 719528 - db Y - mb (leap Y) 1 ≤ 366
        omega
      · have := mb_step (leap Y) m (by omega) (by omega)
        show n + 719528 - db Y - mb (leap Y) ((m + 1 : Nat) : Int) = n + 719528 - db Y - mb (leap Y) m - ml (leap Y) m
        rw [show ((m + 1 : Nat) : Int) = m + 1 by omega]; omega
      · show n + 719528 - db Y - mb (leap Y) 13 < 0
        rw [mb_13]; omega
      · have hv' : 0 ≤ n + 719528 - db Y - mb (leap Y) m := hv
        have hl' : n + 719528 - db Y - mb (leap Y) m < ml (leap Y) m := hl
        refine ⟨Y, m, n + 719528 - db Y - mb (leap Y) m + 1, ⟨by omega, by omega, by omega, by omega, by omega, by omega⟩, ?_, rfl, hbw.out.1.trans (hbr.mono (by rw [hbw.out.2]; exact Nat.le_refl _))⟩
        unfold dn; omega
    have hv1 := HV1.out.2
    clear hbw HT
    have hbx4 : Hid (B1 ((w2.drewN (1 + q3)).setCell ⟨b, 0, none⟩ (.int .i64 (n + 719528 - db Y))) b (V 1)) := by rw [HV1.out.1]; exact HBX3
    have hv0 : 0 ≤ V 1 := by rw [HV1.out.1]; omega
    clear HBX3 HV1
    generalize (w2.drewN (1 + q3)).setCell ⟨b, 0, none⟩ (.int .i64 (n + 719528 - db Y)) = w3 at *
    go_loopw [8] (fun i wr => ∃ m : Nat, 1 ≤ m ∧ m ≤ 12 ∧ i = .int .i64 m ∧ Hid (B1 wr b (V m)) ∧ 0 ≤ V m ∧ V m ≤ 366 ∧ Hid (Below b w2 wr)) (fun i _ => 13 - (intOf i).toNat)
    case atStart => exact ⟨1, by omega, by omega, rfl, hbx4, hv0, hv1, HB3⟩
    case round =>
      obtain ⟨m, hm1, hm12, rfl, hbx, hv0, hv1, hb⟩ := hrel
      obtain ⟨hc, hf, hlt⟩ := hbx.out.facts
      have hLb := HLB.out m hm1
      have hTr := Lib.hid (hTb.out _ hb.out)
      have hLm := Lib.hid (HL.out m (by omega))
      by_cases hlt : V m < L m
      · have hfin := Lib.hid (HE.out m hm1 hm12 hv0 hlt)
        clear HE HL HLB HVS HV13 hTb
        generalize V m = v at *
        generalize L m = l at *
        go_wp2_with fail
        go_quiet (first | (go_at_call 40; exact Calls.quiet_of (hLm.out _ (hTr.out.drewN _))))
        go_wp2
        go_quiet (fail)
        go_wp2
        (try simp only [Exit.inBlock, Exit.then]); refine bodyPost_ret (results_tmp4 rfl _ _ _) rfl ?_
        rw [HPo.out]
        exact hfin.out _ (hb.out.trans ⟨rfl, rfl, rfl, Nat.le_refl _, fun _ _ => rfl⟩)
      · have hs := HVS.out m hm12
        have hm11 : m < 12 := by
          by_cases e : m = 12
          · subst e
            have := HV13.out
            have h13 : V 13 = V 12 - L 12 := hs
            omega
          · omega
        clear HE HL HLB HVS HV13 hTb
        have hsh := Lib.hid hs
        clear hs
        generalize hvv : V m = v at *
        generalize L m = l at *
        have hle : l ≤ v := by omega
        go_wp2_with fail
        go_quiet (first | (go_at_call 40; exact Calls.quiet_of (hLm.out _ (hTr.out.drewN _))))
        go_wp2_with fail
        go_region_with (first | (go_at_call 40; refine (hLm.out _ (hTr.out.drewN _)).mono ?_; rintro e w3 ⟨rfl, q3, rfl⟩))
        all_goals go_wp2_with fail
        all_goals
          go_roundw
          case rel =>
            refine ⟨m + 1, by omega, by omega, by go_num, ?_, by rw [hsh.out]; omega, by rw [hsh.out]; omega, ?_⟩
            · rw [hsh.out]; exact Lib.hid ((hbx.out.drewN _).set _)
            · exact Lib.hid (hb.out.trans (Below.setCell (drewN_below b wr _ (by omega)) (p := ⟨b, 0, none⟩) (Nat.le_refl _) _))
          case measure => simp [intOf]; omega
end Go.Proofs.YtckeefjmamggmaaDoor
