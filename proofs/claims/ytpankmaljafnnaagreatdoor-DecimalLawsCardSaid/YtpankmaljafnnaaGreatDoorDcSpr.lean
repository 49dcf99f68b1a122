/-
  Helper: the walk of number.spread.
-/
import Derived.Test.YtpankmaljafnnaaGreatDoorDcRep
namespace Go.Proofs.YtpankmaljafnnaaGreatDoor
open Go.RowKit
set_option linter.unusedVariables false
set_option linter.unusedSimpArgs false

/-- the digits in a wider room -/
def spreadL (ds : List UInt8) (width drop : Nat) : List UInt8 := List.replicate (width - drop - ds.length) 48 ++ ds ++ List.replicate drop 48
def SprP (l : List UInt8) (w : World) (en : Ending) (w' : World) : Prop := ∃ g, en = .returned (.slice (some ⟨g, 0, none⟩) l.length l.length) ∧ Rb w' (some ⟨g, 0, none⟩) l ∧ Below w.heap.size w w'
theorem rb_of_cells {w : World} {g : Nat} {cur : List Value} {l : List UInt8} (h : w.heap[g]? = some (.cells cur.toArray 5 (0, 0))) (hl : cur.take l.length = bytes l) : Rb w (some ⟨g, 0, none⟩) l := by
  refine .inr ⟨g, 0, rfl, (Array.getElem?_eq_some_iff.1 h).1, fun i hi => ?_⟩
  rw [cell_of_row w g _ _ _ (0, 0) h, Nat.zero_add]
  have : (cur.take l.length)[i]? = some (.int .u8 ((l.getD i 0).toNat : Int)) := by rw [hl]; exact bytes_get l i hi
  rw [List.getElem?_take_of_lt hi] at this
  simpa using this
theorem spread_list (cur : List Value) (ds : List UInt8) (width drop : Nat) (hw : ds.length + drop ≤ width) (z2 : width ≤ cur.length) (z3 : cur.take width = bytes (List.replicate width 48)) :
    (cur.take (width - drop - ds.length) ++ bytes ds ++ cur.drop (width - drop - ds.length + ds.length)).take width = bytes (spreadL ds width drop) := by
  have hp : cur.take (width - drop - ds.length) = bytes (List.replicate (width - drop - ds.length) 48) := by
    have : cur.take (width - drop - ds.length) = (cur.take width).take (width - drop - ds.length) := by rw [List.take_take, Nat.min_eq_left (by omega)]
    rw [this, z3]; unfold bytes; rw [← List.map_take, List.take_replicate, Nat.min_eq_left (by omega)]
  have hd : (cur.drop (width - drop)).take drop = bytes (List.replicate drop 48) := by
    have : (cur.drop (width - drop)).take drop = (cur.take width).drop (width - drop) := by
      rw [List.drop_take]; congr 1; omega
    rw [this, z3]; unfold bytes; rw [← List.map_drop, List.drop_replicate]; congr 2; omega
  have hlb : (bytes ds).length = ds.length := bytes_len ds
  have hX : (cur.take (width - drop - ds.length) ++ bytes ds).length = width - drop := by rw [List.length_append, hlb, List.length_take]; omega
  rw [List.take_append, List.take_of_length_le (by omega), hX, show width - drop - ds.length + ds.length = width - drop by omega, show width - (width - drop) = drop by omega, hd, hp]
  unfold spreadL bytes
  simp
set_option maxRecDepth 100000 in
set_option maxHeartbeats 8000000 in
theorem spread_any (b : Bool) (ds : List UInt8) (e : Int) (a : Option Addr) (cap : Nat) (hcap : ds.length ≤ cap) (hds : ds.length ≤ 100000) (ex : Int) (drop width : Nat) (hex : e - ex = (drop : Int)) (hw : ds.length + drop ≤ width) (hw1 : 1 ≤ width) (hw2 : width ≤ 100000)
    (hb1 : -1000000 ≤ e) (hb2 : e ≤ 1000000) (w : World) (hr : Rb w a ds) :
    Calls Tryz.prog 61 #[.agg (nvl b a ds.length cap e).toArray, .int .i64 ex, .int .i64 width] w (SprP (spreadL ds width drop) w) := by
  obtain ⟨wb, hwb⟩ : ∃ wb, w.alloc (.cells (nvl b a ds.length cap e).toArray 61) = wb := ⟨_, rfl⟩
  obtain ⟨N, hN⟩ : ∃ N, w.heap.size = N := ⟨_, rfl⟩
  have hB : Hid (Blk wb N 61 (nvl b a ds.length cap e)) := by rw [← hwb, ← hN]; exact Blk.new w _ _
  have hbel : Below w.heap.size w wb := by rw [← hwb]; exact (Below.refl _ w).alloc (Nat.le_refl _) _
  have hb : Hid (Below w.heap.size w wb) := hbel
  have hrb : Hid (Rb wb a ds) := hr.go hbel
  -- the literal's row
  obtain ⟨wl, hwl⟩ : ∃ wl, wb.alloc (.cells #[.int .u8 48] 5) = wl := ⟨_, rfl⟩
  obtain ⟨G, hG⟩ : ∃ G, wb.heap.size = G := ⟨_, rfl⟩
  have hbl : Hid (Below wb.heap.size wb wl) := by rw [← hwl]; exact (Below.refl _ wb).alloc (Nat.le_refl _) _
  have hcl : wl.cell? ⟨G, 0, none⟩ = some (.int .u8 48) := by rw [← hwl, ← hG]; exact cell_of_row _ _ 0 _ _ (0, 0) (heap_alloc_new wb _)
  have hGl : G < wl.heap.size := by rw [← hwl, ← hG]; simp
  have HR := Lib.hid (rep_any width hw1 hw2 G wl hGl hcl)
  have hL : (spreadL ds width drop).length = width := by unfold spreadL; simp; omega
  have HF : Hid (∀ g w', Rb w' (some ⟨g, 0, none⟩) (spreadL ds width drop) → Below w.heap.size w w' → SprP (spreadL ds width drop) w (.returned (.slice (some ⟨g, 0, none⟩) width width)) w') := fun g w' h1 h2 => ⟨g, by rw [hL], h1, h2⟩
  -- the copy
  have HK : Hid (∀ (W : World) (g : Nat), ZRow W g width → Rb W a ds → g < W.heap.size → ∃ w', (Builtin.copy_ #[59, 59] 3 #[.slice (some (if width = width - drop - ds.length then ⟨g, 0, none⟩ else ⟨g, width - drop - ds.length, none⟩)) (width - (width - drop - ds.length)) (width - (width - drop - ds.length)), .slice a ds.length cap]).run Tryz.prog W = .ok (.int .i64 (ds.length : Int)) w' ∧ Rb w' (some ⟨g, 0, none⟩) (spreadL ds width drop) ∧ ∀ B w0, Below B w0 W → B ≤ g → Below B w0 w') := fun W g hz hrW hgW => by
    obtain ⟨cur, z1, z2, z3⟩ := hz
    by_cases h0 : ds.length = 0
    · obtain rfl := List.eq_nil_of_length_eq_zero h0
      refine ⟨W, run_copy_none (P := Tryz.prog) W 59 59 3 5 _ a _ _ 0 cap Tryz.underlying59 size_u8 (by simp), ?_, fun B w0 h _ => h⟩
      have : spreadL [] width drop = List.replicate width 48 := by
        unfold spreadL
        rw [List.append_nil, List.length_nil, Nat.sub_zero, List.replicate_append_replicate]
        congr 1; simp at hw; omega
      rw [this]
      exact rb_of_cells z1 (by rw [List.length_replicate]; exact z3)
    · obtain ⟨gb, off, rfl, _, hc⟩ := hrW.at 0 (by omega)
      obtain ⟨ad, had, hsrc⟩ := rb_src hrW (by omega)
      cases had
      rw [if_neg (by omega)]
      have hlb : (bytes ds).length = ds.length := bytes_len ds
      have hr := run_copy_row (P := Tryz.prog) W 59 59 3 5 g (width - drop - ds.length) (width - (width - drop - ds.length)) (width - (width - drop - ds.length)) ⟨gb, off, none⟩ ds.length cap cur.toArray 5 (bytes ds) Tryz.underlying59 size_u8 z1 (by rw [hlb]; exact (Nat.min_eq_left (by omega)).symm) hsrc (by rw [hlb]; simpa using (by omega : width - drop - ds.length + ds.length ≤ cur.length)) (cells_one _)
      rw [hlb] at hr
      refine ⟨_, hr, ?_, fun B w0 hb hB => below_row hb hB _⟩
      refine rb_of_cells (cur := cur.take (width - drop - ds.length) ++ bytes ds ++ cur.drop (width - drop - ds.length + ds.length)) (setRow_heap _ _ _ _ _ _ z1) ?_
      rw [hL]
      exact spread_list cur ds width drop hw z2 z3
  have hb3 : Hid (Below w.heap.size w wl) := hb.out.trans (hbl.out.mono hb.out.size)
  have hBl := Lib.hid (hB.out.go hbl.out hB.out.lt)
  have hrl := Lib.hid (hrb.out.go hbl.out)
  clear hr hrb hB hb hbl hbel hL hcl
  unfold RepP at HR
  generalize SprP (spreadL ds width drop) w = Po at *
  generalize spreadL ds width drop = S at *
  have i1 : (width : Int) - (drop : Int) - (ds.length : Int) = ((width - drop - ds.length : Nat) : Int) := by omega
  have i2 : width - drop - ds.length ≤ width := by omega
  have i3 : (drop : Int) ≤ (width : Int) := by omega
  generalize width - drop - ds.length = p at *
  generalize ds.length = dl at *
  go_enter Tryz.func61, Tryz.ntmps61
  go_wp2_with fail
  refine HR.out.mono ?_
  rintro en w2 ⟨g, rfl, hg, hz, q2⟩
  have hgl : g < w2.heap.size := by
    obtain ⟨cur, z1, _⟩ := hz
    exact (Array.getElem?_eq_some_iff.1 z1).1
  have hB2 := hBl.out.go q2 hBl.out.lt
  have c1 := hB2.cell 1 (.slice a dl cap) rfl
  have c2 := hB2.cell 2 (.int .i64 e) rfl
  have hb4 := hb3.out.trans (q2.mono hb3.out.size)
  obtain ⟨w3, r1, r2, r3⟩ := HK.out w2.drew g hz (hrl.out.go q2.drew) hgl
  have hg2 : w.heap.size ≤ g := Nat.le_trans hb3.out.size hg
  have hfin := Lib.hid (HF.out g w3 r2 (r3 _ _ hb4.drew hg2))
  clear hz hgl hB2 q2 hb4 r2 r3 HK HF hg hg2 hBl hrl hb3 HR
  have d1 : w2.drew.cell? ⟨N, 1, none⟩ = some (.slice a dl cap) := c1
  have d2 : w2.drew.cell? ⟨N, 2, none⟩ = some (.int .i64 e) := c2
  have k0 : (0 : Int) ≤ (p : Int) := by omega
  have k1 : (p : Int) ≤ (width : Int) := by omega
  by_cases hwp : width = p
  · rw [if_pos hwp] at r1
    subst hwp
    rw [Nat.sub_self] at r1
    go_wp2
    go_region
    all_goals (go_wp2; exact hfin.out)
  · rw [if_neg hwp] at r1
    go_wp2
    go_region
    all_goals (go_wp2; exact hfin.out)
end Go.Proofs.YtpankmaljafnnaaGreatDoor
