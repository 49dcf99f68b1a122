/-
  Helper: the walks of calculate, Add, Sub and Mul.
-/
import Derived.Test.YtmnopohjnbpinabIRead2
import Derived.Test.YtmnopohjnbpinabIText
import Derived.Test.YtmnopohjnbpinabINumM
namespace Go.Proofs.Ytmnopohjnbpinab
open Go.RowKit
set_option linter.unusedVariables false

/-- an integer's canonical text -/
def TB (z : Int) : ByteArray := ⟨(T z).toArray⟩
theorem TB_list (z : Int) : (TB z).data.toList = T z := by simp [TB]
def OutP (r : Int) (w : World) (e : Ending) (w' : World) : Prop := (Sh r → e = .returned (.tuple #[.string (TB r), .int .i64 0])) ∧ (¬ Sh r → e = .returned (.tuple #[.string ⟨#[]⟩, .int .i64 6])) ∧ Below w.heap.size w w'
def OutNo (w : World) (e : Ending) (w' : World) : Prop := e = .returned (.tuple #[.string ⟨#[]⟩, .int .i64 3]) ∧ Below w.heap.size w w'

/-- whatever a text is, read comes back and says whether it is one -/
def ReadAny (s : List UInt8) (w : World) (e : Ending) (w' : World) : Prop := ∃ b a n c, e = .returned (.tuple #[.agg #[.bool b, .slice a n c], .bool (vldB s)]) ∧ Below w.heap.size w w'
theorem read_any (s : ByteArray) (w : World) (hs : s.size ≤ maxLen) : Calls Try.prog 46 #[.string s] w (ReadAny s.data.toList w) := by
  by_cases h : Vld s.data.toList
  · obtain ⟨z, hz, he⟩ := vld_iff _ h
    refine (read_yes z hz s he w).mono ?_
    rintro e w' ⟨a, cap, rfl, _, _, hb⟩
    exact ⟨_, _, _, _, by rw [vldB_yes _ h], hb⟩
  · refine (read_no s w hs h).mono ?_
    rintro e w' ⟨rfl, hb⟩
    exact ⟨_, _, _, _, by rw [vldB_no _ h], hb⟩
theorem box_past {w1 w2 : World} {v0 v1 : Value} {t : Nat} (o : Obj) (h : Below (w1.alloc (.cells #[v0, v1] t)).heap.size (w1.alloc (.cells #[v0, v1] t)) w2) : (w2.alloc o).cell? ⟨w1.heap.size, 0, none⟩ = some v0 ∧ (w2.alloc o).cell? ⟨w1.heap.size, 1, none⟩ = some v1 ∧ w1.heap.size < w2.heap.size := by
  obtain ⟨h0, h1, _, _⟩ := resbox rfl h
  have hl : w1.heap.size < w2.heap.size := by have := h.size; simp at this; omega
  exact ⟨by rw [World.cell?_alloc_past _ _ _ hl]; exact h0, by rw [World.cell?_alloc_past _ _ _ hl]; exact h1, hl⟩

set_option maxRecDepth 100000 in
set_option maxHeartbeats 2000000 in
theorem calc_no (a b : ByteArray) (fv : Value) (w : World) (ha : a.size ≤ maxLen) (hb : b.size ≤ maxLen) (h : ¬ Vld a.data.toList ∨ ¬ Vld b.data.toList) :
    Calls Try.prog 50 #[.string a, .string b, fv] w (OutNo w) := by
  have HA := Lib.hid (fun W => read_any a W ha)
  have HB := Lib.hid (fun W => read_any b W hb)
  have hv : vldB a.data.toList = false ∨ (vldB a.data.toList = true ∧ vldB b.data.toList = false) := by
    by_cases g : Vld a.data.toList
    · rcases h with h | h
      · exact absurd g h
      · exact .inr ⟨vldB_yes _ g, vldB_no _ h⟩
    · exact .inl (vldB_no _ g)
  have HF : Hid (∀ w', Below w.heap.size w w' → OutNo w (.returned (.tuple #[.string ⟨#[]⟩, .int .i64 3])) w') := fun w' h => ⟨rfl, h⟩
  clear ha hb h
  generalize OutNo w = Po at *
  rcases hv with hv | ⟨hv, hv2⟩
  · have hvh := Lib.hid hv
    clear hv
    go_enter Try.func50, Try.ntmps50
    go_wp2_with fail
    refine (HA.out _).mono ?_
    rintro e w1 ⟨b0, a0, n0, c0, rfl, h1⟩
    rw [hvh.out]
    go_wp2_with fail
    refine (HB.out _).mono ?_
    rintro e w2 ⟨b1, a1, n1, c1, rfl, h2⟩
    have hfin := Lib.hid (fun o => HF.out (w2.alloc o) (((h1.alloc h1.size _).trans (h2.mono (by have := h1.size; simp; omega))).alloc (by have := h1.size; have := h2.size; simp at this; omega) _))
    generalize vldB b.data.toList = vb2 at *
    go_wp2
    exact hfin.out _
  · have hvh := Lib.hid hv
    have hvh2 := Lib.hid hv2
    clear hv hv2
    go_enter Try.func50, Try.ntmps50
    go_wp2_with fail
    refine (HA.out _).mono ?_
    rintro e w1 ⟨b0, a0, n0, c0, rfl, h1⟩
    rw [hvh.out]
    go_wp2_with fail
    refine (HB.out _).mono ?_
    rintro e w2 ⟨b1, a1, n1, c1, rfl, h2⟩
    rw [hvh2.out]
    have hfin := Lib.hid (fun o => HF.out (w2.alloc o) (((h1.alloc h1.size _).trans (h2.mono (by have := h1.size; simp; omega))).alloc (by have := h1.size; have := h2.size; simp at this; omega) _))
    go_wp2
    exact hfin.out _
theorem sh100 {z : Int} (h : Sh z) : (E 10 z.natAbs).length ≤ 100000 := by unfold Sh at h; omega
theorem outP_long {r : Int} {w w' : World} (h : 400 < (E 10 r.natAbs).length) (hb : Below w.heap.size w w') : OutP r w (.returned (.tuple #[.string ⟨#[]⟩, .int .i64 6])) w' := ⟨fun g => absurd g (by unfold Sh; omega), fun _ => rfl, hb⟩
theorem outP_ok {r : Int} {w w' : World} (h : (E 10 r.natAbs).length ≤ 400) (hb : Below w.heap.size w w') : OutP r w (.returned (.tuple #[.string ⟨(Tb 10 r).toArray⟩, .int .i64 0])) w' := ⟨fun _ => rfl, fun g => absurd h g, hb⟩

set_option maxRecDepth 100000 in
set_option maxHeartbeats 3000000 in
theorem calc_plus (x y : Int) (hx : Sh x) (hy : Sh y) (hlr : (E 10 (x + y).natAbs).length ≤ 100000) (a b : ByteArray) (ha : a.data.toList = T x) (hb : b.data.toList = T y) (w : World) :
    Calls Try.prog 50 #[.string a, .string b, .func (.func 51) #[] #[]] w (OutP (x + y) w) := by
  have HA := Lib.hid (fun W => read_yes x hx a ha W)
  have HB := Lib.hid (fun W => read_yes y hy b hb W)
  have HOP := Lib.hid (fun ax ay cx cy W h1 h2 (h3 : (E 10 y.natAbs).length ≤ cy) => nplus_any x y ax ay cx cy W (sh100 hx) (sh100 hy) h1 h2)
  have HT := Lib.hid (fun ra rc W hr h1 h2 => numtext_any (x + y) 10 (by omega) (by omega) ra rc W hr h1 h2)
  have HL := Lib.hid (fun w' h hb => outP_long (r := x + y) (w := w) (w' := w') h hb)
  have HK := Lib.hid (fun w' h hb => outP_ok (r := x + y) (w := w) (w' := w') h hb)
  clear ha hb hx hy
  generalize hPo : OutP (x + y) w = Po at *
  clear hPo
  generalize x + y = r at *
  go_enter Try.func50, Try.ntmps50
  go_wp2_with fail
  refine (HA.out _).mono ?_
  rintro e w1 ⟨ax, cx, rfl, hrx, hcx, h1⟩
  generalize hbx : neg x = bx at *
  generalize hlx : (E 10 x.natAbs).length = lx at *
  have hrxh := Lib.hid hrx
  clear hbx hlx hrx
  go_wp2_with fail
  refine (HB.out _).mono ?_
  rintro e w2 ⟨ay, cy, rfl, hry, hcy, h2⟩
  generalize hby : neg y = by' at *
  generalize hly : (E 10 y.natAbs).length = ly at *
  have hba : Below w1.heap.size w1 (w1.alloc (.cells #[.bool bx, .slice ax lx cx] 70)) := (Below.refl _ _).alloc (Nat.le_refl _) _
  have hb12 : Below w1.heap.size w1 w2 := hba.trans (h2.mono hba.size)
  have hw2 : Below w.heap.size w w2 := h1.trans (hb12.mono h1.size)
  have hb3 : Below w2.heap.size w2 (w2.alloc (.cells #[.bool by', .slice ay ly cy] 70)) := (Below.refl _ _).alloc (Nat.le_refl _) _
  obtain ⟨x0, x1, xl⟩ := box_past (.cells #[.bool by', .slice ay ly cy] 70) h2
  have hop := Lib.hid (HOP.out ax ay cx cy (w2.alloc (.cells #[.bool by', .slice ay ly cy] 70)) ((hrxh.out.go hb12).go hb3) (hry.go hb3) hcy)
  have hw3 := Lib.hid (hw2.trans (hb3.mono hw2.size))
  clear hby hly hry h1 h2 hba hb12 hw2 hb3
  go_wp2_with fail
  refine hop.out.mono ?_
  rintro e w4 ⟨ra, rc, rfl, hr4, hc4, h4⟩
  have hw4 : Below w.heap.size w w4 := hw3.out.trans (h4.mono hw3.out.size)
  have hb5 : Below w4.heap.size w4 (w4.alloc (.cells #[.bool (neg r), .slice ra (E 10 r.natAbs).length rc] 70)) := (Below.refl _ _).alloc (Nat.le_refl _) _
  have hw5 : Below w.heap.size w (w4.alloc (.cells #[.bool (neg r), .slice ra (E 10 r.natAbs).length rc] 70)) := hw4.trans (hb5.mono hw4.size)
  have ht := Lib.hid (HT.out ra rc _ (hr4.go hb5) hlr (by omega))
  have hl := Lib.hid (HL.out _ · hw5)
  have hk := Lib.hid (fun w6 (h6 : Below (w4.alloc (.cells #[.bool (neg r), .slice ra (E 10 r.natAbs).length rc] 70)).heap.size (w4.alloc (.cells #[.bool (neg r), .slice ra (E 10 r.natAbs).length rc] 70)) w6) h => HK.out w6 h (hw5.trans (h6.mono hw5.size)))
  clear hr4 hc4 h4 hw4 hb5 hw5 HT HL HK HOP HA HB hop
  generalize neg r = br at *
  generalize hlr2 : (E 10 r.natAbs).length = lr at *
  by_cases h400 : 400 < lr
  · have h400i : (400 : Int) < lr := by omega
    have hfin := Lib.hid (hl.out h400)
    clear hlr2 x0 x1
    go_wp2
    exact hfin.out
  · have h400i : (lr : Int) ≤ 400 := by omega
    have hfin := Lib.hid (fun w6 h6 => hk.out w6 h6 (by omega))
    clear hlr2 x0 x1
    go_wp2_with fail
    refine ht.out.mono ?_
    rintro e w6 ⟨rfl, h6⟩
    have hfin2 := Lib.hid (hfin.out w6 h6)
    clear h6
    generalize (⟨(Tb 10 r).toArray⟩ : ByteArray) = tx at *
    go_wp2
    exact hfin2.out

set_option maxRecDepth 100000 in
set_option maxHeartbeats 3000000 in
theorem calc_minus (x y : Int) (hx : Sh x) (hy : Sh y) (hlr : (E 10 (x + -y).natAbs).length ≤ 100000) (a b : ByteArray) (ha : a.data.toList = T x) (hb : b.data.toList = T y) (w : World) :
    Calls Try.prog 50 #[.string a, .string b, .func (.func 52) #[] #[]] w (OutP (x + -y) w) := by
  have HA := Lib.hid (fun W => read_yes x hx a ha W)
  have HB := Lib.hid (fun W => read_yes y hy b hb W)
  have HOP := Lib.hid (fun ax ay cx cy W h1 h2 (h3 : (E 10 y.natAbs).length ≤ cy) => nminus_any x y ax ay cx cy W (sh100 hx) (sh100 hy) h1 h2 h3)
  have HT := Lib.hid (fun ra rc W hr h1 h2 => numtext_any (x + -y) 10 (by omega) (by omega) ra rc W hr h1 h2)
  have HL := Lib.hid (fun w' h hb => outP_long (r := x + -y) (w := w) (w' := w') h hb)
  have HK := Lib.hid (fun w' h hb => outP_ok (r := x + -y) (w := w) (w' := w') h hb)
  clear ha hb hx hy
  generalize hPo : OutP (x + -y) w = Po at *
  clear hPo
  generalize x + -y = r at *
  go_enter Try.func50, Try.ntmps50
  go_wp2_with fail
  refine (HA.out _).mono ?_
  rintro e w1 ⟨ax, cx, rfl, hrx, hcx, h1⟩
  generalize hbx : neg x = bx at *
  generalize hlx : (E 10 x.natAbs).length = lx at *
  have hrxh := Lib.hid hrx
  clear hbx hlx hrx
  go_wp2_with fail
  refine (HB.out _).mono ?_
  rintro e w2 ⟨ay, cy, rfl, hry, hcy, h2⟩
  generalize hby : neg y = by' at *
  generalize hly : (E 10 y.natAbs).length = ly at *
  have hba : Below w1.heap.size w1 (w1.alloc (.cells #[.bool bx, .slice ax lx cx] 70)) := (Below.refl _ _).alloc (Nat.le_refl _) _
  have hb12 : Below w1.heap.size w1 w2 := hba.trans (h2.mono hba.size)
  have hw2 : Below w.heap.size w w2 := h1.trans (hb12.mono h1.size)
  have hb3 : Below w2.heap.size w2 (w2.alloc (.cells #[.bool by', .slice ay ly cy] 70)) := (Below.refl _ _).alloc (Nat.le_refl _) _
  obtain ⟨x0, x1, xl⟩ := box_past (.cells #[.bool by', .slice ay ly cy] 70) h2
  have hop := Lib.hid (HOP.out ax ay cx cy (w2.alloc (.cells #[.bool by', .slice ay ly cy] 70)) ((hrxh.out.go hb12).go hb3) (hry.go hb3) hcy)
  have hw3 := Lib.hid (hw2.trans (hb3.mono hw2.size))
  clear hby hly hry h1 h2 hba hb12 hw2 hb3
  go_wp2_with fail
  refine hop.out.mono ?_
  rintro e w4 ⟨ra, rc, rfl, hr4, hc4, h4⟩
  have hw4 : Below w.heap.size w w4 := hw3.out.trans (h4.mono hw3.out.size)
  have hb5 : Below w4.heap.size w4 (w4.alloc (.cells #[.bool (neg r), .slice ra (E 10 r.natAbs).length rc] 70)) := (Below.refl _ _).alloc (Nat.le_refl _) _
  have hw5 : Below w.heap.size w (w4.alloc (.cells #[.bool (neg r), .slice ra (E 10 r.natAbs).length rc] 70)) := hw4.trans (hb5.mono hw4.size)
  have ht := Lib.hid (HT.out ra rc _ (hr4.go hb5) hlr (by omega))
  have hl := Lib.hid (HL.out _ · hw5)
  have hk := Lib.hid (fun w6 (h6 : Below (w4.alloc (.cells #[.bool (neg r), .slice ra (E 10 r.natAbs).length rc] 70)).heap.size (w4.alloc (.cells #[.bool (neg r), .slice ra (E 10 r.natAbs).length rc] 70)) w6) h => HK.out w6 h (hw5.trans (h6.mono hw5.size)))
  clear hr4 hc4 h4 hw4 hb5 hw5 HT HL HK HOP HA HB hop
  generalize neg r = br at *
  generalize hlr2 : (E 10 r.natAbs).length = lr at *
  by_cases h400 : 400 < lr
  · have h400i : (400 : Int) < lr := by omega
    have hfin := Lib.hid (hl.out h400)
    clear hlr2 x0 x1
    go_wp2
    exact hfin.out
  · have h400i : (lr : Int) ≤ 400 := by omega
    have hfin := Lib.hid (fun w6 h6 => hk.out w6 h6 (by omega))
    clear hlr2 x0 x1
    go_wp2_with fail
    refine ht.out.mono ?_
    rintro e w6 ⟨rfl, h6⟩
    have hfin2 := Lib.hid (hfin.out w6 h6)
    clear h6
    generalize (⟨(Tb 10 r).toArray⟩ : ByteArray) = tx at *
    go_wp2
    exact hfin2.out

set_option maxRecDepth 100000 in
set_option maxHeartbeats 3000000 in
theorem calc_times (x y : Int) (hx : Sh x) (hy : Sh y) (hlr : (E 10 (x * y).natAbs).length ≤ 100000) (a b : ByteArray) (ha : a.data.toList = T x) (hb : b.data.toList = T y) (w : World) :
    Calls Try.prog 50 #[.string a, .string b, .func (.func 58) #[] #[]] w (OutP (x * y) w) := by
  have HA := Lib.hid (fun W => read_yes x hx a ha W)
  have HB := Lib.hid (fun W => read_yes y hy b hb W)
  have HOP := Lib.hid (fun ax ay cx cy W h1 h2 (h3 : (E 10 y.natAbs).length ≤ cy) => ntimes_any x y ax ay cx cy W (sh100 hx) (sh100 hy) h1 h2)
  have HT := Lib.hid (fun ra rc W hr h1 h2 => numtext_any (x * y) 10 (by omega) (by omega) ra rc W hr h1 h2)
  have HL := Lib.hid (fun w' h hb => outP_long (r := x * y) (w := w) (w' := w') h hb)
  have HK := Lib.hid (fun w' h hb => outP_ok (r := x * y) (w := w) (w' := w') h hb)
  clear ha hb hx hy
  generalize hPo : OutP (x * y) w = Po at *
  clear hPo
  generalize x * y = r at *
  go_enter Try.func50, Try.ntmps50
  go_wp2_with fail
  refine (HA.out _).mono ?_
  rintro e w1 ⟨ax, cx, rfl, hrx, hcx, h1⟩
  generalize hbx : neg x = bx at *
  generalize hlx : (E 10 x.natAbs).length = lx at *
  have hrxh := Lib.hid hrx
  clear hbx hlx hrx
  go_wp2_with fail
  refine (HB.out _).mono ?_
  rintro e w2 ⟨ay, cy, rfl, hry, hcy, h2⟩
  generalize hby : neg y = by' at *
  generalize hly : (E 10 y.natAbs).length = ly at *
  have hba : Below w1.heap.size w1 (w1.alloc (.cells #[.bool bx, .slice ax lx cx] 70)) := (Below.refl _ _).alloc (Nat.le_refl _) _
  have hb12 : Below w1.heap.size w1 w2 := hba.trans (h2.mono hba.size)
  have hw2 : Below w.heap.size w w2 := h1.trans (hb12.mono h1.size)
  have hb3 : Below w2.heap.size w2 (w2.alloc (.cells #[.bool by', .slice ay ly cy] 70)) := (Below.refl _ _).alloc (Nat.le_refl _) _
  obtain ⟨x0, x1, xl⟩ := box_past (.cells #[.bool by', .slice ay ly cy] 70) h2
  have hop := Lib.hid (HOP.out ax ay cx cy (w2.alloc (.cells #[.bool by', .slice ay ly cy] 70)) ((hrxh.out.go hb12).go hb3) (hry.go hb3) hcy)
  have hw3 := Lib.hid (hw2.trans (hb3.mono hw2.size))
  clear hby hly hry h1 h2 hba hb12 hw2 hb3
  go_wp2_with fail
  refine hop.out.mono ?_
  rintro e w4 ⟨ra, rc, rfl, hr4, hc4, h4⟩
  have hw4 : Below w.heap.size w w4 := hw3.out.trans (h4.mono hw3.out.size)
  have hb5 : Below w4.heap.size w4 (w4.alloc (.cells #[.bool (neg r), .slice ra (E 10 r.natAbs).length rc] 70)) := (Below.refl _ _).alloc (Nat.le_refl _) _
  have hw5 : Below w.heap.size w (w4.alloc (.cells #[.bool (neg r), .slice ra (E 10 r.natAbs).length rc] 70)) := hw4.trans (hb5.mono hw4.size)
  have ht := Lib.hid (HT.out ra rc _ (hr4.go hb5) hlr (by omega))
  have hl := Lib.hid (HL.out _ · hw5)
  have hk := Lib.hid (fun w6 (h6 : Below (w4.alloc (.cells #[.bool (neg r), .slice ra (E 10 r.natAbs).length rc] 70)).heap.size (w4.alloc (.cells #[.bool (neg r), .slice ra (E 10 r.natAbs).length rc] 70)) w6) h => HK.out w6 h (hw5.trans (h6.mono hw5.size)))
  clear hr4 hc4 h4 hw4 hb5 hw5 HT HL HK HOP HA HB hop
  generalize neg r = br at *
  generalize hlr2 : (E 10 r.natAbs).length = lr at *
  by_cases h400 : 400 < lr
  · have h400i : (400 : Int) < lr := by omega
    have hfin := Lib.hid (hl.out h400)
    clear hlr2 x0 x1
    go_wp2
    exact hfin.out
  · have h400i : (lr : Int) ≤ 400 := by omega
    have hfin := Lib.hid (fun w6 h6 => hk.out w6 h6 (by omega))
    clear hlr2 x0 x1
    go_wp2_with fail
    refine ht.out.mono ?_
    rintro e w6 ⟨rfl, h6⟩
    have hfin2 := Lib.hid (hfin.out w6 h6)
    clear h6
    generalize (⟨(Tb 10 r).toArray⟩ : ByteArray) = tx at *
    go_wp2
    exact hfin2.out
end Go.Proofs.Ytmnopohjnbpinab
