/- Results that lie in memory and beside it; record: Bytes. -/
import Derived.Test.YtjaoaikcmbfnmaaRq
namespace Go.Proofs.Ytjaoaikcmbfnmaa
set_option maxRecDepth 8192
set_option linter.unusedSimpArgs false
set_option linter.unusedVariables false
open Go.RowKit

theorem load_bk {w : World} {g : Nat} {cs : List Value} {ty : TypeId} {d : TypeDesc} (hg : Bk w g cs) (hu : Try.prog.underlying ty = some d) (hd : d.isRow = true) (hi : (Try.prog.info? ty).map (·.size) = some cs.length) :
    (loadVar ty ⟨g, 0, none⟩).run Try.prog w = .ok (.agg cs.toArray) w := by
  obtain ⟨t, hg⟩ := hg
  exact run_loadVar_row w g t ty cs.toArray (0, 0) d hg hu (by cases d <;> first | rfl | cases hd) (by simpa using hi)
section
variable {fn : Func} {p q r s : Tmp} {ty ty2 : TypeId} {R : Ending → World → Prop} {a : Act} {w : World} {g g2 : Nat} {v v2 : Value}
theorem ret_tct (h : fn.results = #[.tmp p, .cell q ty, .tmp r]) (hd0 : a.defers = []) (hq : a.tmps.getD q undef = .pointer (some ⟨g, 0, none⟩)) (hl : (loadVar ty ⟨g, 0, none⟩).run Try.prog w = .ok v w)
    (hR : R (.returned (.tuple #[a.tmps.getD p undef, v, a.tmps.getD r undef])) w) : bodyPost Try.prog fn R .ret a w := by
  have hq' : a.tmps[q]?.getD undef = .pointer (some ⟨g, 0, none⟩) := by simpa using hq
  refine bodyPost_ret (v := .tuple #[a.tmps.getD p undef, v, a.tmps.getD r undef]) ?_ hd0 hR
  simp [results, h, hq', asAddr, hl]
theorem ret_ttc (h : fn.results = #[.tmp p, .tmp r, .cell q ty]) (hd0 : a.defers = []) (hq : a.tmps.getD q undef = .pointer (some ⟨g, 0, none⟩)) (hl : (loadVar ty ⟨g, 0, none⟩).run Try.prog w = .ok v w)
    (hR : R (.returned (.tuple #[a.tmps.getD p undef, a.tmps.getD r undef, v])) w) : bodyPost Try.prog fn R .ret a w := by
  have hq' : a.tmps[q]?.getD undef = .pointer (some ⟨g, 0, none⟩) := by simpa using hq
  refine bodyPost_ret (v := .tuple #[a.tmps.getD p undef, a.tmps.getD r undef, v]) ?_ hd0 hR
  simp [results, h, hq', asAddr, hl]
theorem ret_ctt (h : fn.results = #[.cell q ty, .tmp p, .tmp r]) (hd0 : a.defers = []) (hq : a.tmps.getD q undef = .pointer (some ⟨g, 0, none⟩)) (hl : (loadVar ty ⟨g, 0, none⟩).run Try.prog w = .ok v w)
    (hR : R (.returned (.tuple #[v, a.tmps.getD p undef, a.tmps.getD r undef])) w) : bodyPost Try.prog fn R .ret a w := by
  have hq' : a.tmps[q]?.getD undef = .pointer (some ⟨g, 0, none⟩) := by simpa using hq
  refine bodyPost_ret (v := .tuple #[v, a.tmps.getD p undef, a.tmps.getD r undef]) ?_ hd0 hR
  simp [results, h, hq', asAddr, hl]
theorem ret_ctct (h : fn.results = #[.cell q ty, .tmp p, .cell s ty2, .tmp r]) (hd0 : a.defers = []) (hq : a.tmps.getD q undef = .pointer (some ⟨g, 0, none⟩)) (hl : (loadVar ty ⟨g, 0, none⟩).run Try.prog w = .ok v w)
    (hs : a.tmps.getD s undef = .pointer (some ⟨g2, 0, none⟩)) (hl2 : (loadVar ty2 ⟨g2, 0, none⟩).run Try.prog w = .ok v2 w)
    (hR : R (.returned (.tuple #[v, a.tmps.getD p undef, v2, a.tmps.getD r undef])) w) : bodyPost Try.prog fn R .ret a w := by
  have hq' : a.tmps[q]?.getD undef = .pointer (some ⟨g, 0, none⟩) := by simpa using hq
  have hs' : a.tmps[s]?.getD undef = .pointer (some ⟨g2, 0, none⟩) := by simpa using hs
  refine bodyPost_ret (v := .tuple #[v, a.tmps.getD p undef, v2, a.tmps.getD r undef]) ?_ hd0 hR
  simp [results, h, hq', hs', asAddr, hl, hl2]
end

/-- No record may be of that Kind and Data: Bytes answers nothing. -/
def NoBytes (w : World) (e : Ending) (w' : World) : Prop := e = .returned (.tuple #[.slice none 0 0, .agg z36.toArray, .int .i64 2]) ∧ Below w.heap.size w w'
/-- A record's bytes, and the chain behind it. -/
def IsB (w : World) (S R : List UInt8) (e : Ending) (w' : World) : Prop := ∃ v, e = .returned (.tuple #[v, .agg (cs8 S).toArray, .int .i64 0]) ∧ Ow w' w.heap.size v R ∧ Below w.heap.size w w'

theorem built23 : Try.prog.built 23 [] = some z36.toArray := by kernel_rfl
theorem all_z36 : z36.toArray.all (·.oneCell') = true := by decide +kernel

theorem wpList_build {ops : Array Oper} {rest : List Oper} {o : Oper} {a : Act} {w : World} {Q : Exit → Act → World → Prop} (hgd : o.guard = none) (T : TypeId) (parts : Array (Nat × Operand)) (ho : o.op = .build T parts) (cells : Array Value)
    (hc : Try.prog.built T (parts.map fun (i, x) => (i, a.eval x)).toList = some cells) (h : wpList Try.prog ops Q rest (a.put o.dst (.agg cells)) w) : wpList Try.prog ops Q (o :: rest) a w :=
  wpList_plain hgd fun _ hK => by
    unfold Oper.wp execOp
    simp only [ho, Sem.run_bind, run_build w T _ cells hc, Result.andThen_ok]
    exact hK _ _ h

set_option maxHeartbeats 800000 in
theorem Bytes_bad {A : Option Addr} {n c : Nat} {k : UInt8} {C : List UInt8} (w : World) (h : ¬ (k ≠ 0 ∧ n ≤ 8192)) :
    Calls Try.prog 8 #[.agg (cs8 C).toArray, .agg #[.int .u8 (k.toNat : Int), .slice A n c]] w (NoBytes w) := by
  have H := Lib.hid h
  clear h
  go_enter Try.func8, Try.ntmps8
  go_wp2_with (refine wpList_alloc_z rfl 23 rfl z36 zero36 ?_)
  refine (Check_bad _ H.out).mono ?_; rintro e w1 ⟨rfl, hb⟩
  have hB := Lib.hid (bl_call (bl_alloc (bl_alloc (bl_alloc (bl0 w) (.cells (cs8 C).toArray 23)) (.cells #[.int .u8 (k.toNat : Int), .slice A n c] 31)) (.cells z36.toArray 23)) hb)
  have hZ : Hid (Bk w1 (w.heap.size + 1 + 1) z36) := Lib.hid (by
    have := (Bk.new ((w.alloc (.cells (cs8 C).toArray 23)).alloc (.cells #[.int .u8 (k.toNat : Int), .slice A n c] 31)) z36 23).keep hb
    simpa using this)
  clear hb
  go_wp2_with (first | (refine wpList_build rfl 23 _ rfl z36.toArray built23 ?_) | (refine wpList_store_bk rfl 23 _ _ rfl (w.heap.size + 1 + 1) rfl z36 z36 rfl hZ.out (by kernel_rfl) rfl all_z36 ?_))
  exact ret_tct rfl rfl rfl (load_bk (hZ.out.setRow z36) Try.underlying23 rfl (by kernel_rfl)) ⟨rfl, bl_setRow hB.out (by omega) _⟩
end Go.Proofs.Ytjaoaikcmbfnmaa
