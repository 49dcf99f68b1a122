/-
  Helper: the walk of CodepointFeeds.
-/
import Derived.Test.YtpebgggdpgppdaaDoorFeedsBase
namespace Go.Proofs.YtpebgggdpgppdaaDoor
open Go.RowKit
set_option linter.unusedVariables false

/-- the reference's scalars in a row of the call's own -/
def RdP (k : Int) (xs : List Int) (w : World) (e : Ending) (w' : World) : Prop := ∃ a cap, e = .returned (.tuple #[.slice a xs.length cap, .int .i64 k]) ∧ xs.length ≤ cap ∧ ((a = none ∧ xs = [] ∧ cap = 0) ∨ ∃ g, a = some ⟨g, 0, none⟩) ∧ Rr w' a xs ∧ Below w.heap.size w w'
theorem ref_rd2 (s : ByteArray) (w : World) (hs : s.size ≤ 100000) : Calls Tryd.prog 8 #[.string s] w (RdP (badAt s) (ints32 (scalars s 0)) w) := by
  refine (refDecode_any s w hs).mono ?_
  rintro e w' ⟨v, rfl, hown, hb⟩
  have hown2 := hown
  obtain ⟨a, cap, rfl, hn, hr⟩ := rr_of_row hown
  rcases hown2.2 with ⟨h1, h2⟩ | ⟨g, cap', cur, h1, _, _, hl, _⟩
  · simp only [Value.slice.injEq] at h1
    obtain ⟨rfl, h3, rfl⟩ := h1
    exact ⟨none, 0, by rw [hn], by omega, .inl ⟨rfl, List.eq_nil_of_length_eq_zero (by omega), rfl⟩, hr, hb⟩
  · simp only [Value.slice.injEq] at h1
    obtain ⟨rfl, _, rfl⟩ := h1
    exact ⟨_, cap, by rw [hn], by omega, .inr ⟨g, rfl⟩, hr, hb⟩
theorem rr_drop {w : World} {g off : Nat} {ys xs : List Int} (td : Nat) (h : Rr w (some ⟨g, 0, none⟩) ys) (hd : ys.drop td = xs) (ho : off = td) : Rr w (some ⟨g, off, none⟩) xs := by
  subst hd ho
  rcases h with h | ⟨b, o, he, hlt, hc⟩
  · exact .inl (by rw [h]; exact List.drop_nil)
  · simp only [Option.some.injEq, Addr.mk.injEq, and_true] at he
    obtain ⟨rfl, rfl⟩ := he
    refine .inr ⟨g, off, rfl, hlt, fun i hi => ?_⟩
    rw [List.length_drop] at hi
    have := hc (off + i) (by omega)
    rw [Nat.zero_add] at this
    rw [this, List.getD_eq_getElem?_getD, List.getD_eq_getElem?_getD, List.getElem?_drop]

/-- f's four cells and the part's cell -/
def C5 (k0 : Nat) (b0 b1 b2 n : Int) (o i : Nat) (part : ByteArray) (W : World) : Prop :=
  W.cell? ⟨k0, 0, none⟩ = some (.int .u8 b0) ∧ W.cell? ⟨k0, 1, none⟩ = some (.int .u8 b1) ∧ W.cell? ⟨k0, 2, none⟩ = some (.int .u8 b2) ∧ W.cell? ⟨k0, 3, none⟩ = some (.int .i64 n) ∧ W.cell? ⟨o, i, none⟩ = some (.string part)
theorem c5_go {k0 : Nat} {b0 b1 b2 n : Int} {o i : Nat} {part : ByteArray} {wr W : World} (h : C5 k0 b0 b1 b2 n o i part wr) (hk : k0 < wr.heap.size) (ho : o < wr.heap.size) (hb : Below wr.heap.size wr W) :
    W.cell? ⟨k0, 0, none⟩ = some (.int .u8 b0) ∧ W.cell? ⟨k0, 1, none⟩ = some (.int .u8 b1) ∧ W.cell? ⟨k0, 2, none⟩ = some (.int .u8 b2) ∧ W.cell? ⟨k0, 3, none⟩ = some (.int .i64 n) ∧ W.cell? ⟨o, i, none⟩ = some (.string part) ∧ Below wr.heap.size wr W := by
  obtain ⟨h0, h1, h2, h3, h4⟩ := h
  have e : ∀ j, W.cell? ⟨k0, j, none⟩ = wr.cell? ⟨k0, j, none⟩ := fun j => hb.cell (p := ⟨k0, j, none⟩) hk
  have e2 : W.cell? ⟨o, i, none⟩ = wr.cell? ⟨o, i, none⟩ := hb.cell (p := ⟨o, i, none⟩) ho
  exact ⟨by rw [e]; exact h0, by rw [e]; exact h1, by rw [e]; exact h2, by rw [e]; exact h3, by rw [e2]; exact h4, hb⟩
theorem b6_drew {a b c d e : Prop} {B : Nat} {w W : World} (h : a ∧ b ∧ c ∧ d ∧ e ∧ Below B w W) : Below B w W.drew := h.2.2.2.2.2.drew
theorem b6_alloc {a b c d e : Prop} {w W : World} {o : Obj} (h : a ∧ b ∧ c ∧ d ∧ e ∧ Below w.heap.size w W) : Below w.heap.size w (W.alloc o) := h.2.2.2.2.2.alloc h.2.2.2.2.2.size _
theorem b6_keep {a b c d e : Prop} {w W W' : World} (hb : Below W.heap.size W W') (h : a ∧ b ∧ c ∧ d ∧ e ∧ Below w.heap.size w W) : Below w.heap.size w W' := h.2.2.2.2.2.trans (hb.mono h.2.2.2.2.2.size)
theorem b6_put {a b c d e : Prop} {w W : World} {x : Nat} {u0 u1 u2 u3 : Value} (h : a ∧ b ∧ c ∧ d ∧ e ∧ Below w.heap.size w W) (hx : w.heap.size ≤ x) : Below w.heap.size w ((((W.setCell ⟨x, 0, none⟩ u0).setCell ⟨x, 1, none⟩ u1).setCell ⟨x, 2, none⟩ u2).setCell ⟨x, 3, none⟩ u3) :=
  (((h.2.2.2.2.2.setCell (p := ⟨x, 0, none⟩) hx _).setCell (p := ⟨x, 1, none⟩) hx _).setCell (p := ⟨x, 2, none⟩) hx _).setCell (p := ⟨x, 3, none⟩) hx _

theorem b6_putN {a b c d e a' b' c' d' e' : Prop} {w W : World} {o : Obj} {u0 u1 u2 u3 : Value} (h : a ∧ b ∧ c ∧ d ∧ e ∧ Below w.heap.size w W) (h' : a' ∧ b' ∧ c' ∧ d' ∧ e' ∧ Below w.heap.size w (W.alloc o)) : Below w.heap.size w (((((W.alloc o).setCell ⟨W.heap.size, 0, none⟩ u0).setCell ⟨W.heap.size, 1, none⟩ u1).setCell ⟨W.heap.size, 2, none⟩ u2).setCell ⟨W.heap.size, 3, none⟩ u3) :=
  b6_put h' h.2.2.2.2.2.size
theorem b6_re {wr W : World} {o : Obj} (hb : Below wr.drew.heap.size wr.drew W) : Below wr.heap.size wr (W.alloc o) :=
  have h : Below wr.heap.size wr W := ((Below.refl _ _).drew).trans hb
  h.alloc h.size _
theorem b6_tabs {a b c d e : Prop} {w wr W : World} (h : a ∧ b ∧ c ∧ d ∧ e ∧ Below wr.heap.size wr W) (hB : Hid (∀ W, Below wr.heap.size wr W → Below w.heap.size w W ∧ Tabs W)) : Tabs W := (hB.out W h.2.2.2.2.2).2
theorem b6_tabs' {a b c d e : Prop} {w wr W : World} {o : Obj} (h : a ∧ b ∧ c ∧ d ∧ e ∧ Below wr.heap.size wr (W.alloc o).drew) (hB : Hid (∀ W, Below wr.heap.size wr W → Below w.heap.size w W ∧ Tabs W)) : Tabs (W.alloc o).drew := (hB.out _ h.2.2.2.2.2).2
theorem fz_past {W w' : World} {b0 b1 b2 n : Int} {t : TypeId} (hb : Below (W.alloc (.cells #[.int .u8 b0, .int .u8 b1, .int .u8 b2, .int .i64 n] t)).drew.heap.size (W.alloc (.cells #[.int .u8 b0, .int .u8 b1, .int .u8 b2, .int .i64 n] t)).drew w') : Fz W.heap.size b0 b1 b2 n w' :=
  (fz_new W b0 b1 b2 n t).below (((Below.refl _ _).drew).trans hb)

theorem fz_put {w : World} {X : Nat} {c0 c1 c2 c3 : Int} (h : Fz X c0 c1 c2 c3 w) (v0 v1 v2 v3 : Int) : Fz X v0 v1 v2 v3 ((((w.setCell ⟨X, 0, none⟩ (.int .u8 v0)).setCell ⟨X, 1, none⟩ (.int .u8 v1)).setCell ⟨X, 2, none⟩ (.int .u8 v2)).setCell ⟨X, 3, none⟩ (.int .i64 v3)) := by
  obtain ⟨⟨hs, h0, h1, h2, h3⟩, z0, z1, z2, z3⟩ := h
  have ne : ∀ i j : Nat, i ≠ j → (⟨X, i, none⟩ : Addr) ≠ ⟨X, j, none⟩ := fun i j hij e => hij (by injection e)
  refine ⟨⟨by simp only [World.size_setCell]; exact hs, ?_, ?_, ?_, ?_⟩, by simp only [World.frozen?_setCell]; exact z0, by simp only [World.frozen?_setCell]; exact z1, by simp only [World.frozen?_setCell]; exact z2, by simp only [World.frozen?_setCell]; exact z3⟩
  · rw [World.cell?_setCell_other _ _ _ _ (ne 3 0 (by omega)), World.cell?_setCell_other _ _ _ _ (ne 2 0 (by omega)), World.cell?_setCell_other _ _ _ _ (ne 1 0 (by omega))]
    exact World.cell?_setCell_same _ _ _ h0
  · rw [World.cell?_setCell_other _ _ _ _ (ne 3 1 (by omega)), World.cell?_setCell_other _ _ _ _ (ne 2 1 (by omega))]
    exact World.cell?_setCell_same _ _ _ (u := .int .u8 c1) (by rw [World.cell?_setCell_other _ _ _ _ (ne 0 1 (by omega))]; exact h1)
  · rw [World.cell?_setCell_other _ _ _ _ (ne 3 2 (by omega))]
    exact World.cell?_setCell_same _ _ _ (u := .int .u8 c2) (by rw [World.cell?_setCell_other _ _ _ _ (ne 1 2 (by omega)), World.cell?_setCell_other _ _ _ _ (ne 0 2 (by omega))]; exact h2)
  · exact World.cell?_setCell_same _ _ _ (u := .int .i64 c3) (by rw [World.cell?_setCell_other _ _ _ _ (ne 2 3 (by omega)), World.cell?_setCell_other _ _ _ _ (ne 1 3 (by omega)), World.cell?_setCell_other _ _ _ _ (ne 0 3 (by omega))]; exact h3)
theorem rr_put {w : World} {X : Nat} {c0 c1 c2 c3 : Int} (h : Fz X c0 c1 c2 c3 w) {a : Option Addr} {xs : List Int} (hr : Rr w a xs) (v0 v1 v2 v3 : Int) : Rr ((((w.setCell ⟨X, 0, none⟩ (.int .u8 v0)).setCell ⟨X, 1, none⟩ (.int .u8 v1)).setCell ⟨X, 2, none⟩ (.int .u8 v2)).setCell ⟨X, 3, none⟩ (.int .i64 v3)) a xs := by
  obtain ⟨⟨hs, h0, h1, h2, h3⟩, _⟩ := h
  rcases hr with hr | ⟨b, off, rfl, hlt, hc⟩
  · exact .inl hr
  · refine .inr ⟨b, off, rfl, by simp only [World.size_setCell]; exact hlt, fun i hi => ?_⟩
    have hci := hc i hi
    have ne : ∀ (j : Nat) (v : Value), w.cell? ⟨X, j, none⟩ = some v → v ≠ .int .i32 (xs.getD i 0) → (⟨X, j, none⟩ : Addr) ≠ ⟨b, off + i, none⟩ := fun j v hv hne e => by
      rw [← e, hv] at hci
      exact hne (Option.some.inj hci)
    rw [World.cell?_setCell_other _ _ _ _ (ne 3 _ h3 (fun e => by injection e with e1; cases e1)), World.cell?_setCell_other _ _ _ _ (ne 2 _ h2 (fun e => by injection e with e1; cases e1)), World.cell?_setCell_other _ _ _ _ (ne 1 _ h1 (fun e => by injection e with e1; cases e1)), World.cell?_setCell_other _ _ _ _ (ne 0 _ h0 (fun e => by injection e with e1; cases e1))]
    exact hci
/-- behind Feed: x's cells, the result -/
def Aft (wr : World) (X : Nat) (v0 v1 v2 v3 : Int) (a : Option Addr) (xs : List Int) (W : World) : Prop := Fz X v0 v1 v2 v3 W ∧ wr.heap.size ≤ X ∧ Below wr.heap.size wr W ∧ Rr W a xs
theorem aft_A {wr w : World} {o : Obj} {c0 c1 c2 c3 : Int} {a : Option Addr} {xs : List Int} (v0 v1 v2 v3 : Int) (hb : Below (wr.alloc o).drew.heap.size (wr.alloc o).drew w) (hz : Fz wr.heap.size c0 c1 c2 c3 w) (hr : Rr w a xs) : Aft wr wr.heap.size v0 v1 v2 v3 a xs ((((w.setCell ⟨wr.heap.size, 0, none⟩ (.int .u8 v0)).setCell ⟨wr.heap.size, 1, none⟩ (.int .u8 v1)).setCell ⟨wr.heap.size, 2, none⟩ (.int .u8 v2)).setCell ⟨wr.heap.size, 3, none⟩ (.int .i64 v3)) := by
  have h1 : Below wr.heap.size wr (wr.alloc o).drew := ((Below.refl _ _).alloc (Nat.le_refl _) _).drew
  have h2 := h1.trans (hb.mono h1.size)
  exact ⟨fz_put hz v0 v1 v2 v3, Nat.le_refl _, (((h2.setCell (p := ⟨wr.heap.size, 0, none⟩) (Nat.le_refl _) _).setCell (p := ⟨wr.heap.size, 1, none⟩) (Nat.le_refl _) _).setCell (p := ⟨wr.heap.size, 2, none⟩) (Nat.le_refl _) _).setCell (p := ⟨wr.heap.size, 3, none⟩) (Nat.le_refl _) _, rr_put hz hr v0 v1 v2 v3⟩
theorem aft_B {wr w : World} {t : TypeId} {a : Option Addr} {xs : List Int} (v0 v1 v2 v3 : Int) (hb : Below wr.drew.heap.size wr.drew w) (hr : Rr w a xs) : Aft wr w.heap.size v0 v1 v2 v3 a xs (w.alloc (.cells #[.int .u8 v0, .int .u8 v1, .int .u8 v2, .int .i64 v3] t)) := by
  have h1 : Below wr.heap.size wr w := ((Below.refl _ _).drew).trans hb
  exact ⟨fz_new w v0 v1 v2 v3 t, h1.size, h1.alloc h1.size _, hr.below ((Below.refl _ _).alloc (Nat.le_refl _) _)⟩
theorem Aft.go {wr W W' : World} {X : Nat} {v0 v1 v2 v3 : Int} {a : Option Addr} {xs : List Int} (h : Aft wr X v0 v1 v2 v3 a xs W) (hb : Below W.heap.size W W') : Aft wr X v0 v1 v2 v3 a xs W' := by
  obtain ⟨h1, h2, h3, h4⟩ := h
  exact ⟨h1.below hb, h2, h3.trans (hb.mono h3.size), h4.below hb⟩

set_option maxRecDepth 100000 in
set_option maxHeartbeats 16000000 in
theorem walkCodepointFeeds (w : World) (hT : Tabs w) (a : Option Addr) (len cap : Nat) (z : List ByteArray) (h : IsStrs w a len cap z) :
    Calls Tryd.prog 3 #[.slice a len cap] w fun e w' => e = .returned (.bool true) ∧ Below w.heap.size w w' := by
  obtain ⟨hm, hat⟩ := isstrs_at h
  unfold maxLen at hm hat
  have HT := Lib.hid hT
  have HAT := Lib.hid hat
  clear hT h hat
  by_cases hs : len ≤ 20
  · go_enter Tryd.func3, Tryd.ntmps3
    go_wp2_with fail
    refine (awake1_any _ HT.out).mono ?_
    rintro e w0 ⟨rfl, hb0⟩
    go_wp2_with fail
    have hB1 : Below w.heap.size w (w0.alloc (.cells #[.int .u8 0, .int .u8 0, .int .u8 0, .int .i64 0] 26)) := hb0.alloc hb0.size _
    have hFz0 := fz_new w0 0 0 0 0 26
    have hB0 := Lib.hid hb0.size
    generalize w0.alloc (.cells #[.int .u8 0, .int .u8 0, .int .u8 0, .int .i64 0] 26) = W1 at *
    have hFz : Fz w0.heap.size 0 0 0 0 W1 := hFz0
    clear hFz0 hb0
    generalize w0.heap.size = k0 at *
    go_loopw [4, 5, 6] (fun s t c wr => ∃ (k : Nat) (I : ByteArray) (q : List UInt8) (told : Int) (b0 b1 b2 n : Int), k ≤ len ∧ s = .string I ∧ t = .int .i64 told ∧ c = .int .i64 k ∧ I.size ≤ 100 * k ∧ Hid (At I q told) ∧ Hid (fq q = .agg #[.int .u8 b0, .int .u8 b1, .int .u8 b2, .int .i64 n]) ∧ Hid (Fz k0 b0 b1 b2 n wr) ∧ Hid (Below w.heap.size w wr)) (fun _ _ c _ => len - (intOf c).toNat)
    case atStart => exact ⟨0, ⟨#[]⟩, [], 0, 0, 0, 0, 0, Nat.zero_le _, rfl, rfl, rfl, Nat.le_refl _, at_start, rfl, hFz, hB1⟩
    case round =>
      clear hFz hB1
      obtain ⟨k, I, q, told, b0, b1, b2, n, hk, rfl, rfl, rfl, hI, HAt, Hfq, HF, HB⟩ := hrel
      by_cases hlt : k < len
      · obtain ⟨o, off, part, rfl, ho, hc1, hps⟩ := HAT.out k hlt
        have c1 := HB.out.cell (p := ⟨o, off + k, none⟩) ho
        rw [hc1] at c1
        have hkn : (k : Int) < (len : Int) := by omega
        have hTr : Hid (Tabs wr) := HT.out.below' HB.out
        have how : o < wr.heap.size := Nat.lt_of_lt_of_le ho HB.out.size
        clear hc1
        by_cases hp : part.size ≤ 100
        · have hISZ : (I ++ part).size ≤ 100 * (k + 1) := by rw [ByteArray.size_append]; omega
          have hISZ2 : (I ++ part).size ≤ 100000 := by omega
          obtain ⟨f0, f1, f2, f3⟩ := HF.out.1.2
          have hC5 : C5 k0 b0 b1 b2 n o (off + k) part wr := ⟨f0, f1, f2, f3, c1⟩
          have HSF : Hid (∀ W, Below wr.heap.size wr W → W.cell? ⟨k0, 0, none⟩ = some (.int .u8 b0) ∧ W.cell? ⟨k0, 1, none⟩ = some (.int .u8 b1) ∧ W.cell? ⟨k0, 2, none⟩ = some (.int .u8 b2) ∧ W.cell? ⟨k0, 3, none⟩ = some (.int .i64 n) ∧ W.cell? ⟨o, off + k, none⟩ = some (.string part) ∧ Below wr.heap.size wr W) := Lib.hid fun W h => c5_go hC5 HF.out.1.1 how h
          have HBW : Hid (∀ W, Below wr.heap.size wr W → Below w.heap.size w W ∧ Tabs W) := Lib.hid fun W h => ⟨HB.out.trans (h.mono HB.out.size), hTr.out.below h⟩
          by_cases hok : okF q part
          · obtain ⟨td, rfl⟩ : ∃ td : Nat, told = (td : Int) := ⟨_, HAt.out.2.1⟩
            obtain ⟨d0, d1, d2, hd⟩ := fd_box (nxt q part)
            have hgo := go_on I part
            rw [← HAt.out.1] at hgo
            have HALL : Hid (ints32 (scalars (I ++ part) 0) = ints32 (scalars I 0) ++ got q part ∧ (ints32 (scalars I 0)).length = td) := Lib.hid ⟨by rw [hgo.1]; unfold ints32 got; rw [List.map_append]; rfl, by have := HAt.out.2.1; unfold ints32; rw [List.length_map]; omega⟩
            have HAT2 : Hid (At (I ++ part) (nxt q part) ((ints32 (scalars (I ++ part) 0)).length : Nat)) := Lib.hid ⟨hgo.2.2.1.symm, by unfold ints32; rw [List.length_map], nxt_len q part hok⟩
            have hal : (ints32 (scalars (I ++ part) 0)).length ≤ 100000 := by have := ints32_len (I ++ part); omega
            have hgl : (got q part).length ≤ 1000000 := got_len q HAt.out.2.2 part (by omega)
            have HIS : Hid (∀ a1 a2 c1 c2 W, Rr W a1 (got q part) → Rr W a2 (got q part) → Calls Tryd.prog 9 #[.slice a1 (got q part).length c1, .slice a2 (got q part).length c2] W fun e w' => e = .returned (.bool true) ∧ Below W.heap.size W w') := Lib.hid fun a1 a2 c1 c2 W h1 h2 => is_same _ hgl a1 a2 c1 c2 W h1 h2
            have HDC := Lib.hid (fun w => ref_rd2 (I ++ part) w hISZ2)
            have hVZ : decide (stop (I ++ part) 0 = (I ++ part).size) = decide ((nxt q part).length = 0) := by
              have h := tail_zero I part
              rw [← HAt.out.1] at h
              exact decide_eq_decide.2 h
            have HVA : Hid (∀ w, Calls Tryd.prog 10 #[.string (I ++ part)] w fun e w' => e = .returned (.bool (decide ((nxt q part).length = 0))) ∧ Below w.heap.size w w') := Lib.hid fun w => by
              have h := refValid_any (I ++ part) w hISZ2
              rw [hVZ] at h; exact h
            have HFD : Hid (∀ w, Tabs w → Calls Tryd.prog 5 #[.agg #[.int .u8 b0, .int .u8 b1, .int .u8 b2, .int .i64 n], .string part] w (FdP (got q part) 0 (.agg #[.int .u8 d0, .int .u8 d1, .int .u8 d2, .int .i64 (nxt q part).length]) w)) := fun w hT => by
              have h := feed_ok q HAt.out.2.2 part (by omega) w hT hok
              rw [Hfq.out, hd] at h; exact h
            have HFA : Hid (∀ W : World, Tabs (W.alloc (.cells #[.int .u8 0, .int .u8 0, .int .u8 0, .int .i64 0] 26)).drew → Calls Tryd.prog 5 #[.agg #[.int .u8 b0, .int .u8 b1, .int .u8 b2, .int .i64 n], .string part] (W.alloc (.cells #[.int .u8 0, .int .u8 0, .int .u8 0, .int .i64 0] 26)).drew (fun e w' => FdP (got q part) 0 (.agg #[.int .u8 d0, .int .u8 d1, .int .u8 d2, .int .i64 (nxt q part).length]) (W.alloc (.cells #[.int .u8 0, .int .u8 0, .int .u8 0, .int .i64 0] 26)).drew e w' ∧ Fz W.heap.size 0 0 0 0 w')) := Lib.hid fun W hT => (HFD.out _ hT).mono fun e w' h => ⟨h, by obtain ⟨_, _, _, _, hb⟩ := h; exact fz_past hb⟩
            have HEX : Hid (∀ w, Calls Tryd.prog 6 #[.string (I ++ part)] w fun e w' => e = .returned (.bool true) ∧ Below w.heap.size w w') := fun w => by
              have h := refExt_any (I ++ part) w hISZ2
              rw [decide_eq_true ((ext_iff I part).2 (by rw [← HAt.out.1]; exact hok))] at h; exact h
            have HEN : Hid (∀ w, Calls Tryd.prog 7 #[.agg #[.int .u8 d0, .int .u8 d1, .int .u8 d2, .int .i64 (nxt q part).length]] w fun e w' => e = .returned (.int .i64 (if (nxt q part).length = 0 then 0 else 11)) ∧ Below w.heap.size w w') := fun w => by
              have h := end_q (nxt q part) (nxt_len q part hok) w
              rw [hd] at h; exact h
            have HFQ := Lib.hid hd
            have HFF := Lib.hid (fun W (h : Below wr.heap.size wr W) => HF.out.below h)
            clear hok hC5 HF HB hTr HAt Hfq hd hVZ hgo
            generalize nxt q part = nq at *
            generalize got q part = xs at *
            generalize badAt (I ++ part) = bad at *
            generalize ints32 (scalars (I ++ part) 0) = ys at *
            generalize ints32 (scalars I 0) = zs at *
            generalize nq.length = nl at *
            go_wp2_with fail
            clear f0 f1 f2 f3 c1
            have hS0 := HSF.out wr (Below.refl _ _)
            go_region_held3 (fun w' => w'.cell? ⟨k0, 0, none⟩ = some (.int .u8 b0) ∧ w'.cell? ⟨k0, 1, none⟩ = some (.int .u8 b1) ∧ w'.cell? ⟨k0, 2, none⟩ = some (.int .u8 b2) ∧ w'.cell? ⟨k0, 3, none⟩ = some (.int .i64 n) ∧ w'.cell? ⟨o, off + k, none⟩ = some (.string part) ∧ Below wr.heap.size wr w')
              (first | (with_reducible assumption) | (with_reducible exact HSF.out _ (b6_drew (by assumption))) | (with_reducible exact HSF.out _ (b6_alloc (by assumption))) | (with_reducible exact HSF.out _ (b6_keep (by assumption) (by assumption))) | (with_reducible exact HSF.out _ (b6_put (by assumption) (Nat.le_refl _))) | (with_reducible exact HSF.out _ (b6_putN (by assumption) (by assumption))) | (with_reducible exact HSF.out _ (b6_re (by assumption))) | (trace_state; fail))
              (first | (go_at_call 5; (with_reducible refine (HFA.out _ (b6_tabs' (by assumption) HBW)).mono ?_); rintro e w' ⟨⟨a1, cap1, rfl, hr1, hbb⟩, ⟨xz, x0, x1, x2, x3⟩, y0, y1, y2, y3⟩) | (go_at_call 5; (with_reducible refine (HFD.out _ (b6_tabs (by assumption) HBW)).mono ?_); rintro e w' ⟨a1, cap1, rfl, hr1, hbb⟩))
            rotate_left
            have hA := aft_A d0 d1 d2 nl hbb ⟨⟨xz, x0, x1, x2, x3⟩, y0, y1, y2, y3⟩ hr1
            clear xz x0 x1 x2 x3 y0 y1 y2 y3 hbb hr1
            rename_i hHeld
            clear hHeld
            generalize ((((w'.setCell ⟨wr.heap.size, 0, none⟩ (.int .u8 d0)).setCell ⟨wr.heap.size, 1, none⟩ (.int .u8 d1)).setCell ⟨wr.heap.size, 2, none⟩ (.int .u8 d2)).setCell ⟨wr.heap.size, 3, none⟩ (.int .i64 nl)) = W5 at *
            obtain ⟨X, hX⟩ : ∃ X, X = wr.heap.size := ⟨_, rfl⟩
            rw [← hX] at hA ⊢
            clear hX
            rotate_left
            have hA := aft_B (t := 26) d0 d1 d2 nl hbb hr1
            clear hbb hr1
            rename_i hHeld
            clear hHeld
            generalize w'.alloc (.cells #[.int .u8 d0, .int .u8 d1, .int .u8 d2, .int .i64 nl] 26) = W5 at *
            generalize w'.heap.size = X at *
            all_goals
              have HA := Lib.hid hA
              clear hA hS0
              go_wp2_with fail
              refine (HEX.out _).mono ?_
              rintro e W6 ⟨rfl, hb6⟩
              have HA6 := Lib.hid (HA.out.go hb6)
              clear hb6 HA
              go_wp2_with fail
              refine (HDC.out _).mono ?_
              rintro e W7 ⟨ra, rcap, rfl, hrl, hra, hrr, hb7⟩
              have HA7 := Lib.hid (HA6.out.go hb7)
              have HRR := Lib.hid hrr
              clear hb7 HA6 hrr
              rcases hra with ⟨rfl, hy0, rfl⟩ | ⟨g, rfl⟩
              · have hxz : xs = [] ∧ zs = [] := by
                  have h := HALL.out.1
                  rw [hy0] at h
                  exact ⟨(List.append_eq_nil_iff.1 h.symm).2, (List.append_eq_nil_iff.1 h.symm).1⟩
                have htd : td = 0 := by have := HALL.out.2; rw [hxz.2] at this; exact this.symm
                have hyl : ys.length = 0 := by rw [hy0]; rfl
                have hxl : xs.length = 0 := by rw [hxz.1]; rfl
                have hi0 := Lib.hid (HIS.out a1 none cap1 0 W7 HA7.out.2.2.2 (.inl hxz.1))
                rw [hxl] at hi0
                have hxl2 := Lib.hid hxl
                rw [hxl]
                have hyl2 := Lib.hid hyl
                have HAT0 : Hid (At (I ++ part) nq 0) := Lib.hid (by have h := HAT2.out; rw [hyl] at h; exact h)
                clear hxz hy0 hrl hal
                subst htd
                rw [hyl] at *
                go_wp2_with fail
                refine hi0.out.mono ?_
                rintro e W8 ⟨rfl, hb8⟩
                have HA8 := Lib.hid (HA7.out.go hb8)
                clear hb8 HA7 HRR HIS HDC HEX HFD HFA HSF
                by_cases hn0 : nl = 0
                · rw [decide_eq_true hn0] at HVA
                  rw [if_pos hn0] at HEN
                  clear hn0
                  go_wp2_with fail
                  refine (HVA.out _).mono ?_
                  rintro e W9 ⟨rfl, hb9⟩
                  have HA9 := Lib.hid (HA8.out.go hb9)
                  clear hb9 HA8
                  obtain ⟨⟨⟨_, x0, x1, x2, x3⟩, _⟩, _⟩ := HA9.out
                  go_wp2_with fail
                  refine (HEN.out _).mono ?_
                  rintro e W10 ⟨rfl, hb10⟩
                  have HA10 := Lib.hid (HA9.out.go hb10)
                  clear hb10 HA9 x0 x1 x2 x3
                  obtain ⟨⟨⟨_, x0, x1, x2, x3⟩, _⟩, _⟩ := HA10.out
                  have HZ10 := Lib.hid (HFF.out W10 HA10.out.2.2.1)
                  have HB10 := Lib.hid (HBW.out W10 HA10.out.2.2.1).1
                  obtain ⟨⟨_, f0, f1, f2, f3⟩, z0, z1, z2, z3⟩ := HZ10.out
                  go_wp2_with fail
                  go_roundw
                  case rel => exact ⟨k + 1, I ++ part, nq, 0, d0, d1, d2, nl, by omega, rfl, rfl, by go_num, hISZ, HAT0, HFQ, Lib.hid (fz_put HZ10.out d0 d1 d2 nl), Lib.hid ((((HB10.out.setCell (p := ⟨k0, 0, none⟩) hB0.out _).setCell (p := ⟨k0, 1, none⟩) hB0.out _).setCell (p := ⟨k0, 2, none⟩) hB0.out _).setCell (p := ⟨k0, 3, none⟩) hB0.out _)⟩
                  case measure => simp [intOf]; omega
                · rw [decide_eq_false hn0] at HVA
                  rw [if_neg hn0] at HEN
                  clear hn0
                  go_wp2_with fail
                  refine (HVA.out _).mono ?_
                  rintro e W9 ⟨rfl, hb9⟩
                  have HA9 := Lib.hid (HA8.out.go hb9)
                  clear hb9 HA8
                  obtain ⟨⟨⟨_, x0, x1, x2, x3⟩, _⟩, _⟩ := HA9.out
                  go_wp2_with fail
                  refine (HEN.out _).mono ?_
                  rintro e W10 ⟨rfl, hb10⟩
                  have HA10 := Lib.hid (HA9.out.go hb10)
                  clear hb10 HA9 x0 x1 x2 x3
                  obtain ⟨⟨⟨_, x0, x1, x2, x3⟩, _⟩, _⟩ := HA10.out
                  have HZ10 := Lib.hid (HFF.out W10 HA10.out.2.2.1)
                  have HB10 := Lib.hid (HBW.out W10 HA10.out.2.2.1).1
                  obtain ⟨⟨_, f0, f1, f2, f3⟩, z0, z1, z2, z3⟩ := HZ10.out
                  go_wp2_with fail
                  go_roundw
                  case rel => exact ⟨k + 1, I ++ part, nq, 0, d0, d1, d2, nl, by omega, rfl, rfl, by go_num, hISZ, HAT0, HFQ, Lib.hid (fz_put HZ10.out d0 d1 d2 nl), Lib.hid ((((HB10.out.setCell (p := ⟨k0, 0, none⟩) hB0.out _).setCell (p := ⟨k0, 1, none⟩) hB0.out _).setCell (p := ⟨k0, 2, none⟩) hB0.out _).setCell (p := ⟨k0, 3, none⟩) hB0.out _)⟩
                  case measure => simp [intOf]; omega
              · have hyx : ys.length - td = xs.length := by rw [HALL.out.1, List.length_append, HALL.out.2]; omega
                have htd : td ≤ ys.length := by rw [HALL.out.1, List.length_append, HALL.out.2]; omega
                have hdr : Hid (ys.drop td = xs) := Lib.hid (by rw [HALL.out.1, ← HALL.out.2, List.drop_left])
                go_wp2_with fail
                · have hxe : xs = [] := List.eq_nil_of_length_eq_zero (by omega)
                  have hq := HIS.out a1 (some ⟨g, 0, none⟩) cap1 0 W7 HA7.out.2.2.2 (.inl hxe)
                  clear hyx htd hrl hal hgl hdr hxe
                  with_reducible refine hq.mono ?_
                  clear hq
                  rintro e W8 ⟨rfl, hb8⟩
                  have HA8 := Lib.hid (HA7.out.go hb8)
                  clear hb8 HA7 HRR HIS HDC HEX HFD HFA HSF
                  by_cases hn0 : nl = 0
                  · rw [decide_eq_true hn0] at HVA
                    rw [if_pos hn0] at HEN
                    clear hn0
                    go_wp2_with fail
                    refine (HVA.out _).mono ?_
                    rintro e W9 ⟨rfl, hb9⟩
                    have HA9 := Lib.hid (HA8.out.go hb9)
                    clear hb9 HA8
                    obtain ⟨⟨⟨_, x0, x1, x2, x3⟩, _⟩, _⟩ := HA9.out
                    go_wp2_with fail
                    refine (HEN.out _).mono ?_
                    rintro e W10 ⟨rfl, hb10⟩
                    have HA10 := Lib.hid (HA9.out.go hb10)
                    clear hb10 HA9 x0 x1 x2 x3
                    obtain ⟨⟨⟨_, x0, x1, x2, x3⟩, _⟩, _⟩ := HA10.out
                    have HZ10 := Lib.hid (HFF.out W10 HA10.out.2.2.1)
                    have HB10 := Lib.hid (HBW.out W10 HA10.out.2.2.1).1
                    obtain ⟨⟨_, f0, f1, f2, f3⟩, z0, z1, z2, z3⟩ := HZ10.out
                    go_wp2_with fail
                    go_roundw
                    case rel => exact ⟨k + 1, I ++ part, nq, (ys.length : Nat), d0, d1, d2, nl, by omega, rfl, rfl, by go_num, hISZ, HAT2, HFQ, Lib.hid (fz_put HZ10.out d0 d1 d2 nl), Lib.hid ((((HB10.out.setCell (p := ⟨k0, 0, none⟩) hB0.out _).setCell (p := ⟨k0, 1, none⟩) hB0.out _).setCell (p := ⟨k0, 2, none⟩) hB0.out _).setCell (p := ⟨k0, 3, none⟩) hB0.out _)⟩
                    case measure => simp [intOf]; omega
                  · rw [decide_eq_false hn0] at HVA
                    rw [if_neg hn0] at HEN
                    clear hn0
                    go_wp2_with fail
                    refine (HVA.out _).mono ?_
                    rintro e W9 ⟨rfl, hb9⟩
                    have HA9 := Lib.hid (HA8.out.go hb9)
                    clear hb9 HA8
                    obtain ⟨⟨⟨_, x0, x1, x2, x3⟩, _⟩, _⟩ := HA9.out
                    go_wp2_with fail
                    refine (HEN.out _).mono ?_
                    rintro e W10 ⟨rfl, hb10⟩
                    have HA10 := Lib.hid (HA9.out.go hb10)
                    clear hb10 HA9 x0 x1 x2 x3
                    obtain ⟨⟨⟨_, x0, x1, x2, x3⟩, _⟩, _⟩ := HA10.out
                    have HZ10 := Lib.hid (HFF.out W10 HA10.out.2.2.1)
                    have HB10 := Lib.hid (HBW.out W10 HA10.out.2.2.1).1
                    obtain ⟨⟨_, f0, f1, f2, f3⟩, z0, z1, z2, z3⟩ := HZ10.out
                    go_wp2_with fail
                    go_roundw
                    case rel => exact ⟨k + 1, I ++ part, nq, (ys.length : Nat), d0, d1, d2, nl, by omega, rfl, rfl, by go_num, hISZ, HAT2, HFQ, Lib.hid (fz_put HZ10.out d0 d1 d2 nl), Lib.hid ((((HB10.out.setCell (p := ⟨k0, 0, none⟩) hB0.out _).setCell (p := ⟨k0, 1, none⟩) hB0.out _).setCell (p := ⟨k0, 2, none⟩) hB0.out _).setCell (p := ⟨k0, 3, none⟩) hB0.out _)⟩
                    case measure => simp [intOf]; omega
                · have hq := HIS.out a1 (some ⟨g, td, none⟩) cap1 (rcap - td) W7 HA7.out.2.2.2 (rr_drop td HRR.out hdr.out rfl)
                  clear hyx htd hrl hal hgl hdr
                  with_reducible refine hq.mono ?_
                  clear hq
                  rintro e W8 ⟨rfl, hb8⟩
                  have HA8 := Lib.hid (HA7.out.go hb8)
                  clear hb8 HA7 HRR HIS HDC HEX HFD HFA HSF
                  by_cases hn0 : nl = 0
                  · rw [decide_eq_true hn0] at HVA
                    rw [if_pos hn0] at HEN
                    clear hn0
                    go_wp2_with fail
                    refine (HVA.out _).mono ?_
                    rintro e W9 ⟨rfl, hb9⟩
                    have HA9 := Lib.hid (HA8.out.go hb9)
                    clear hb9 HA8
                    obtain ⟨⟨⟨_, x0, x1, x2, x3⟩, _⟩, _⟩ := HA9.out
                    go_wp2_with fail
                    refine (HEN.out _).mono ?_
                    rintro e W10 ⟨rfl, hb10⟩
                    have HA10 := Lib.hid (HA9.out.go hb10)
                    clear hb10 HA9 x0 x1 x2 x3
                    obtain ⟨⟨⟨_, x0, x1, x2, x3⟩, _⟩, _⟩ := HA10.out
                    have HZ10 := Lib.hid (HFF.out W10 HA10.out.2.2.1)
                    have HB10 := Lib.hid (HBW.out W10 HA10.out.2.2.1).1
                    obtain ⟨⟨_, f0, f1, f2, f3⟩, z0, z1, z2, z3⟩ := HZ10.out
                    go_wp2_with fail
                    go_roundw
                    case rel => exact ⟨k + 1, I ++ part, nq, (ys.length : Nat), d0, d1, d2, nl, by omega, rfl, rfl, by go_num, hISZ, HAT2, HFQ, Lib.hid (fz_put HZ10.out d0 d1 d2 nl), Lib.hid ((((HB10.out.setCell (p := ⟨k0, 0, none⟩) hB0.out _).setCell (p := ⟨k0, 1, none⟩) hB0.out _).setCell (p := ⟨k0, 2, none⟩) hB0.out _).setCell (p := ⟨k0, 3, none⟩) hB0.out _)⟩
                    case measure => simp [intOf]; omega
                  · rw [decide_eq_false hn0] at HVA
                    rw [if_neg hn0] at HEN
                    clear hn0
                    go_wp2_with fail
                    refine (HVA.out _).mono ?_
                    rintro e W9 ⟨rfl, hb9⟩
                    have HA9 := Lib.hid (HA8.out.go hb9)
                    clear hb9 HA8
                    obtain ⟨⟨⟨_, x0, x1, x2, x3⟩, _⟩, _⟩ := HA9.out
                    go_wp2_with fail
                    refine (HEN.out _).mono ?_
                    rintro e W10 ⟨rfl, hb10⟩
                    have HA10 := Lib.hid (HA9.out.go hb10)
                    clear hb10 HA9 x0 x1 x2 x3
                    obtain ⟨⟨⟨_, x0, x1, x2, x3⟩, _⟩, _⟩ := HA10.out
                    have HZ10 := Lib.hid (HFF.out W10 HA10.out.2.2.1)
                    have HB10 := Lib.hid (HBW.out W10 HA10.out.2.2.1).1
                    obtain ⟨⟨_, f0, f1, f2, f3⟩, z0, z1, z2, z3⟩ := HZ10.out
                    go_wp2_with fail
                    go_roundw
                    case rel => exact ⟨k + 1, I ++ part, nq, (ys.length : Nat), d0, d1, d2, nl, by omega, rfl, rfl, by go_num, hISZ, HAT2, HFQ, Lib.hid (fz_put HZ10.out d0 d1 d2 nl), Lib.hid ((((HB10.out.setCell (p := ⟨k0, 0, none⟩) hB0.out _).setCell (p := ⟨k0, 1, none⟩) hB0.out _).setCell (p := ⟨k0, 2, none⟩) hB0.out _).setCell (p := ⟨k0, 3, none⟩) hB0.out _)⟩
                    case measure => simp [intOf]; omega
          · have HFD : Hid (∀ w, Tabs w → Calls Tryd.prog 5 #[.agg #[.int .u8 b0, .int .u8 b1, .int .u8 b2, .int .i64 n], .string part] w (FdP [] 11 (.agg #[.int .u8 0, .int .u8 0, .int .u8 0, .int .i64 0]) w)) := fun w hT => by
              have h := feed_bad q HAt.out.2.2 part (by omega) w hT hok
              rw [Hfq.out] at h; exact h
            have HFA : Hid (∀ W : World, Tabs (W.alloc (.cells #[.int .u8 0, .int .u8 0, .int .u8 0, .int .i64 0] 26)).drew → Calls Tryd.prog 5 #[.agg #[.int .u8 b0, .int .u8 b1, .int .u8 b2, .int .i64 n], .string part] (W.alloc (.cells #[.int .u8 0, .int .u8 0, .int .u8 0, .int .i64 0] 26)).drew (fun e w' => FdP [] 11 (.agg #[.int .u8 0, .int .u8 0, .int .u8 0, .int .i64 0]) (W.alloc (.cells #[.int .u8 0, .int .u8 0, .int .u8 0, .int .i64 0] 26)).drew e w' ∧ Fz W.heap.size 0 0 0 0 w')) := Lib.hid fun W hT => (HFD.out _ hT).mono fun e w' h => ⟨h, by obtain ⟨_, _, _, _, hb⟩ := h; exact fz_past hb⟩
            have HEX : Hid (∀ w, Calls Tryd.prog 6 #[.string (I ++ part)] w fun e w' => e = .returned (.bool false) ∧ Below w.heap.size w w') := fun w => by
              have h := refExt_any (I ++ part) w hISZ2
              rw [decide_eq_false (fun g => hok (by have := (ext_iff I part).1 g; rw [← HAt.out.1] at this; exact this))] at h; exact h
            have HEN : Hid (∀ w, Calls Tryd.prog 7 #[.agg #[.int .u8 0, .int .u8 0, .int .u8 0, .int .i64 0]] w fun e w' => e = .returned (.int .i64 0) ∧ Below w.heap.size w w') := fun w => end_q [] (by decide) w
            clear hok hC5 HF HB hTr HAt Hfq
            go_wp2_with fail
            clear f0 f1 f2 f3 c1
            have hS0 := HSF.out wr (Below.refl _ _)
            go_region_held3 (fun w' => w'.cell? ⟨k0, 0, none⟩ = some (.int .u8 b0) ∧ w'.cell? ⟨k0, 1, none⟩ = some (.int .u8 b1) ∧ w'.cell? ⟨k0, 2, none⟩ = some (.int .u8 b2) ∧ w'.cell? ⟨k0, 3, none⟩ = some (.int .i64 n) ∧ w'.cell? ⟨o, off + k, none⟩ = some (.string part) ∧ Below wr.heap.size wr w')
              (first | (with_reducible assumption) | (with_reducible exact HSF.out _ (b6_drew (by assumption))) | (with_reducible exact HSF.out _ (b6_alloc (by assumption))) | (with_reducible exact HSF.out _ (b6_keep (by assumption) (by assumption))) | (with_reducible exact HSF.out _ (b6_put (by assumption) (Nat.le_refl _))) | (with_reducible exact HSF.out _ (b6_putN (by assumption) (by assumption))) | (trace_state; fail))
              (first | (go_at_call 5; (with_reducible refine (HFA.out _ (b6_tabs' (by assumption) HBW)).mono ?_); rintro e w' ⟨⟨a1, cap1, rfl, hr1, hbb⟩, ⟨xz, x0, x1, x2, x3⟩, y0, y1, y2, y3⟩) | (go_at_call 5; (with_reducible refine (HFD.out _ (b6_tabs (by assumption) HBW)).mono ?_); rintro e w' ⟨a1, cap1, rfl, hr1, hbb⟩))
            rotate_left
            have hA := aft_A 0 0 0 0 hbb ⟨⟨xz, x0, x1, x2, x3⟩, y0, y1, y2, y3⟩ hr1
            clear xz x0 x1 x2 x3 y0 y1 y2 y3 hbb hr1
            rename_i hHeld
            clear hHeld
            generalize ((((w'.setCell ⟨wr.heap.size, 0, none⟩ (.int .u8 0)).setCell ⟨wr.heap.size, 1, none⟩ (.int .u8 0)).setCell ⟨wr.heap.size, 2, none⟩ (.int .u8 0)).setCell ⟨wr.heap.size, 3, none⟩ (.int .i64 0)) = W5 at *
            obtain ⟨X, hX⟩ : ∃ X, X = wr.heap.size := ⟨_, rfl⟩
            rw [← hX] at hA ⊢
            clear hX
            rotate_left
            have hA := aft_B (t := 26) 0 0 0 0 hbb hr1
            clear hbb hr1
            rename_i hHeld
            clear hHeld
            generalize w'.alloc (.cells #[.int .u8 0, .int .u8 0, .int .u8 0, .int .i64 0] 26) = W5 at *
            generalize w'.heap.size = X at *
            all_goals
              have HA := Lib.hid hA
              clear hA hS0
              go_wp2_with fail
              refine (HEX.out _).mono ?_
              rintro e W6 ⟨rfl, hb6⟩
              have HA6 := Lib.hid (HA.out.go hb6)
              obtain ⟨⟨⟨_, x0, x1, x2, x3⟩, _⟩, _⟩ := HA6.out
              clear hb6
              go_wp2_with fail
              refine (HEN.out _).mono ?_
              rintro e W7 ⟨rfl, hb7⟩
              have HA7 := Lib.hid (HA6.out.go hb7)
              have hfin := Lib.hid (HBW.out _ HA7.out.2.2.1).1
              clear hb7 x0 x1 x2 x3
              go_wp2_with fail
              go_ret
              exact ⟨rfl, hfin.out⟩
        · go_wp2_with fail
          go_ret
          exact ⟨rfl, HB.out⟩
      · go_wp2_with fail
        go_ret
        exact ⟨rfl, HB.out⟩
  · go_enter Tryd.func3, Tryd.ntmps3
    go_wp2_with fail
    refine (awake1_any _ HT.out).mono ?_
    rintro e w0 ⟨rfl, hb0⟩
    go_wp2_with fail
    go_ret
    exact ⟨rfl, hb0⟩
end Go.Proofs.YtpebgggdpgppdaaDoor
