package proof_test

import (
	"math"
	"math/rand"
	"reflect"
	"slices"
	"strconv"
	"strings"
	"testing"

	"lighterman/api"
	"lighterman/proof"
	"lighterman/tree"
	"lighterman/wire"
)

func letters(s string) []proof.Pair {
	var l []proof.Pair
	for i := range len(s) {
		l = append(l, proof.Pair{Key: s[i : i+1], Val: strconv.Itoa(i + 1)})
	}
	return l
}

func leaf(p proof.Pair) api.Hash { return tree.Leaf(p.Key, p.Val) }

func tops(l []proof.Pair) []api.Hash {
	var all []api.Hash
	for _, p := range l {
		all = append(all, leaf(p))
	}
	return all
}

func clone(p api.Proof) api.Proof {
	p.Leaves = slices.Clone(p.Leaves)
	for i := range p.Leaves {
		p.Leaves[i].Path = slices.Clone(p.Leaves[i].Path)
	}
	return p
}

// badPairs returns pairs of which no list is Good.
func badPairs() []proof.Pair {
	return []proof.Pair{{Key: "", Val: "x"}, {Key: "x", Val: ""}, {Key: strings.Repeat("k", api.MaxKey+1), Val: "x"}, {Key: "x", Val: strings.Repeat("v", api.MaxVal+1)}}
}

func TestGood(t *testing.T) { // P7.1
	long := []proof.Pair{{Key: strings.Repeat("k", api.MaxKey), Val: strings.Repeat("v", api.MaxVal)}}
	for _, l := range [][]proof.Pair{nil, letters("a"), letters("abz"), {{Key: "a", Val: "1"}, {Key: "a\x00", Val: "1"}}, {{Key: "z", Val: "1"}, {Key: "\xff", Val: "1"}}, long} {
		if !proof.Good(l) {
			t.Errorf("Good(%q) is false", l)
		}
	}
	for _, l := range [][]proof.Pair{letters("aa"), letters("ba"), letters("acb"), {{Key: "aa", Val: "1"}, {Key: "a", Val: "1"}}} {
		if proof.Good(l) {
			t.Errorf("Good(%q) is true", l)
		}
	}
	for _, p := range badPairs() {
		if proof.Good([]proof.Pair{p}) || proof.Good(append(letters("a"), p)) {
			t.Errorf("Good of %q is true", p)
		}
	}
}

func TestRoot(t *testing.T) { // P7.1
	l := letters("bdf")
	want := tree.Root(3, tree.Node(tree.Node(leaf(l[0]), leaf(l[1])), leaf(l[2])))
	if proof.Root(l) != want {
		t.Errorf("Root is %x", proof.Root(l))
	}
	if proof.Root(nil) != tree.Root(0, api.Hash{}) {
		t.Error("Root of no pairs")
	}
}

func TestMake(t *testing.T) { // P7.2
	l := letters("bdfhj")
	for key, want := range map[string][]int{
		"b": {0}, "f": {2}, "j": {4}, "a": {0}, "": {0}, "c": {0, 1}, "i": {3, 4}, "k": {4}, "d\x00": {1, 2}, strings.Repeat("e", 500): {1, 2},
	} {
		p := proof.Make(l, key)
		if p.Count != 5 || len(p.Leaves) != len(want) {
			t.Fatalf("Make of %q: %v", key, p)
		}
		for k, i := range want {
			x := api.Leaf{Key: l[i].Key, Val: l[i].Val, Index: i, Path: tree.Way(tops(l), i)}
			if !reflect.DeepEqual(p.Leaves[k], x) {
				t.Errorf("Make of %q has leaf %v", key, p.Leaves[k])
			}
		}
	}
	two := proof.Make([]proof.Pair{{Key: "b", Val: "1"}, {Key: "d", Val: "2"}}, "c")
	if two.Count != 2 || len(two.Leaves) != 2 || len(two.Leaves[0].Path) != 1 || len(two.Leaves[1].Path) != 1 || two.Leaves[1].Index != 1 {
		t.Errorf("Make of c in b, d: %v", two)
	}
	if p := proof.Make(nil, "a"); p.Count != 0 || len(p.Leaves) != 0 {
		t.Errorf("Make in no pairs: %v", p)
	}
	for _, l := range [][]proof.Pair{letters("aa"), letters("ba"), badPairs()} {
		if p := proof.Make(l, "a"); p.Count != 0 || len(p.Leaves) != 0 {
			t.Errorf("Make in a list that is not Good: %v", p)
		}
	}
}

// spoilt returns what becomes of a proof by one change each.
func spoilt(p api.Proof) []api.Proof {
	var all []api.Proof
	change := func(f func(q *api.Proof)) {
		q := clone(p)
		f(&q)
		all = append(all, q)
	}
	for _, n := range []int{-1, 0, p.Count + 1, p.Count - 1, 2 * p.Count, api.MaxLeaves + 1, math.MaxInt, math.MinInt} {
		change(func(q *api.Proof) { q.Count = n })
	}
	for i := range p.Leaves {
		for _, n := range []int{-1, p.Leaves[i].Index + 1, p.Count, math.MaxInt, math.MinInt} {
			change(func(q *api.Proof) { q.Leaves[i].Index = n })
		}
		change(func(q *api.Proof) { q.Leaves[i].Key += "\x00" })
		change(func(q *api.Proof) { q.Leaves[i].Key = "" })
		change(func(q *api.Proof) { q.Leaves[i].Val = "" })
		change(func(q *api.Proof) { q.Leaves[i].Val += "x" })
		change(func(q *api.Proof) { q.Leaves[i].Path = append(q.Leaves[i].Path, api.Hash{}) })
		for k := range p.Leaves[i].Path {
			change(func(q *api.Proof) { q.Leaves[i].Path[k][7] ^= 1 })
			change(func(q *api.Proof) { q.Leaves[i].Path = slices.Delete(q.Leaves[i].Path, k, k+1) })
		}
		change(func(q *api.Proof) { q.Leaves = append(q.Leaves, q.Leaves[i]) })
		change(func(q *api.Proof) { q.Leaves = slices.Delete(q.Leaves, i, i+1) })
	}
	if len(p.Leaves) > 1 {
		change(func(q *api.Proof) { slices.Reverse(q.Leaves) })
	}
	return all
}

func TestMay(t *testing.T) { // P7.3
	l := letters("bdfhj")
	long := api.Leaf{Key: strings.Repeat("k", api.MaxKey), Val: strings.Repeat("v", api.MaxVal)}
	for _, p := range []api.Proof{{}, {Count: 7}, {Count: api.MaxLeaves}, proof.Make(l, "b"), proof.Make(l, "c"), {Count: 1, Leaves: []api.Leaf{long}}, {Count: 1, Leaves: []api.Leaf{long, long}}} {
		if !proof.May(p) {
			t.Errorf("May(%v) is false", p)
		}
	}
	none := api.Leaf{Key: "a", Val: "1"}
	for i, p := range []api.Proof{
		{Count: -1}, {Count: api.MaxLeaves + 1}, {Count: math.MinInt}, {Leaves: []api.Leaf{none}},
		{Count: 1, Leaves: []api.Leaf{none, none, none}}, {Count: 1, Leaves: []api.Leaf{{Key: "", Val: "1"}}},
		{Count: 1, Leaves: []api.Leaf{{Key: "a", Val: ""}}}, {Count: 1, Leaves: []api.Leaf{{Key: "a", Val: "1", Index: 1}}},
		{Count: 1, Leaves: []api.Leaf{{Key: "a", Val: "1", Index: -1}}}, {Count: 2, Leaves: []api.Leaf{none}},
		{Count: 1, Leaves: []api.Leaf{{Key: "a", Val: "1", Path: make([]api.Hash, 1)}}},
		{Count: 1, Leaves: []api.Leaf{{Key: strings.Repeat("k", api.MaxKey+1), Val: "1"}}},
		{Count: 1, Leaves: []api.Leaf{{Key: "k", Val: strings.Repeat("v", api.MaxVal+1)}}},
	} {
		if proof.May(p) {
			t.Errorf("May of case %d is true", i)
		}
	}
}

func TestValueAndHas(t *testing.T) { // P7.3
	l := letters("bdfhj")
	root := proof.Root(l)
	p := proof.Make(l, "f")
	if v, ok := proof.Value(root, p, "f"); v != "3" || !ok || !proof.Has(root, p, "f", "3") || proof.Has(root, p, "f", "4") {
		t.Errorf("Value of f: %q, %t", v, ok)
	}
	for _, c := range []struct {
		root api.Hash
		p    api.Proof
		key  string
	}{{api.Hash{}, p, "f"}, {root, p, "d"}, {root, p, ""}, {root, proof.Make(l, "e"), "d"}, {root, proof.Make(l, "a"), "a"}, {root, api.Proof{}, "f"}} {
		if v, ok := proof.Value(c.root, c.p, c.key); v != "" || ok || proof.Has(c.root, c.p, c.key, "3") || proof.Has(c.root, c.p, c.key, "") {
			t.Errorf("Value of %q: %q, %t", c.key, v, ok)
		}
	}
	for i, q := range spoilt(p) {
		if proof.May(q) && len(q.Leaves) == 1 && proof.Has(root, q, q.Leaves[0].Key, q.Leaves[0].Val) {
			t.Errorf("Has accepts spoilt proof %d: %v", i, q)
		}
	}
}

func TestLacks(t *testing.T) { // P7.3
	l := letters("bdfhj")
	root := proof.Root(l)
	for _, key := range []string{"", "a", "c", "e", "g", "i", "k", "\xff"} {
		p := proof.Make(l, key)
		if !proof.Lacks(root, p, key) || proof.Lacks(api.Hash{}, p, key) {
			t.Errorf("Lacks of %q", key)
		}
		for i, q := range spoilt(p) {
			if proof.Lacks(root, q, key) {
				t.Errorf("Lacks accepts spoilt proof %d of %q: %v", i, key, q)
			}
		}
	}
	empty := proof.Root(nil)
	if !proof.Lacks(empty, api.Proof{}, "a") || proof.Lacks(root, api.Proof{}, "a") || proof.Lacks(tree.Root(1, api.Hash{}), api.Proof{Count: 1}, "a") {
		t.Error("Lacks of no leaves")
	}
	// Wrong neighbours: the proof of another key, and two leaves with one between them.
	far := api.Proof{Count: 5, Leaves: []api.Leaf{proof.Make(l, "b").Leaves[0], proof.Make(l, "f").Leaves[0]}}
	if proof.Lacks(root, far, "c") || proof.Lacks(root, far, "d") || proof.Lacks(root, proof.Make(l, "c"), "e") || proof.Lacks(root, proof.Make(l, "f"), "g") || proof.Lacks(root, proof.Make(l, "f"), "e") {
		t.Error("Lacks accepts leaves that show nothing")
	}
	for _, key := range []string{"b", "d"} {
		if proof.Lacks(root, proof.Make(l, "c"), key) {
			t.Errorf("Lacks of the leaf %q itself", key)
		}
	}
}

func TestSameAndSteps(t *testing.T) { // P7.4
	l := letters("bdfhj")
	p := proof.Make(l, "c")
	if !proof.Same(p, clone(p)) || !proof.Same(api.Proof{}, api.Proof{Leaves: []api.Leaf{}}) {
		t.Error("equal proofs are not the same")
	}
	none := proof.Make(letters("a"), "a")
	with := clone(none)
	with.Leaves[0].Path = []api.Hash{}
	if !proof.Same(none, with) {
		t.Error("an empty path is not the same as none")
	}
	for i, q := range spoilt(p) {
		if proof.Same(p, q) || proof.Same(q, p) {
			t.Errorf("spoilt proof %d is the same", i)
		}
	}
	for _, c := range []struct {
		p    api.Proof
		want int
	}{{api.Proof{}, 0}, {p, 8}, {proof.Make(l, "j"), 2}, {proof.Make(l, "i"), 6}, {api.Proof{Count: -4, Leaves: make([]api.Leaf, 5)}, 5}} {
		if got := proof.Steps(c.p); got != c.want {
			t.Errorf("Steps is %d, not %d", got, c.want)
		}
	}
}

func TestWriteAndRead(t *testing.T) { // P7.4
	l := letters("bd")
	p := proof.Make(l, "c")
	w := wire.New()
	proof.Write(w, p)
	b, d := leaf(l[0]), leaf(l[1])
	want := "\x02\x02\x01b\x011\x00\x01" + string(d[:]) + "\x01d\x012\x01\x01" + string(b[:])
	s, e := w.Bytes()
	if s != want || e != api.OK {
		t.Errorf("Write: %x, %d", s, e)
	}
	r := wire.Of(s + "x")
	if q := proof.Read(r); !proof.Same(p, q) || r.At() != len(s) {
		t.Errorf("Read: %v, %d", q, r.Err())
	}
	r = wire.Of("\x00\x01\x00\x00\x05\x00")
	if q := proof.Read(r); r.End() != api.OK || len(q.Leaves) != 1 || q.Leaves[0].Index != 5 || proof.May(q) {
		t.Errorf("Read of a proof that is not well-formed: %v, %d", q, r.Err())
	}
	w = wire.New()
	proof.Write(w, api.Proof{Count: -1})
	if _, e := w.Bytes(); e != api.ErrRange {
		t.Errorf("Write of a negative Count: %d", e)
	}
	for s, want := range map[string]api.Errno{
		"": api.ErrShort, "\x81\x80\x80\x80\x04\x00": api.ErrRange, "\x01\x03": api.ErrLong, "\x01\x01\xa1\x01": api.ErrLong, "\x01\x01\x01a\x41": api.ErrLong,
		"\x01\x01\x01a\x011\x81\x80\x80\x80\x04": api.ErrRange, "\x01\x01\x01a\x011\x00\x1f": api.ErrLong, "\x01\x01\x01a\x011\x00\x01abc": api.ErrShort, "\x01\x02\x01a\x011\x00\x00": api.ErrShort,
	} {
		r := wire.Of(s)
		if proof.Read(r); r.Err() != want {
			t.Errorf("Read(%x): %d", s, r.Err())
		}
	}
	r = wire.Of("\x80\x80\x80\x80\x04\x01\x01a\x011\x80\x80\x80\x80\x04\x1e" + strings.Repeat("h", 960))
	if q := proof.Read(r); r.End() != api.OK || q.Count != api.MaxLeaves || len(q.Leaves[0].Path) != 30 {
		t.Errorf("Read at the bounds: %d", r.End())
	}
}

func TestWhatIsShown(t *testing.T) { // P7.5
	r := rand.New(rand.NewSource(7))
	for range 60 {
		present := map[string]string{}
		for range r.Intn(20) {
			present[string(rune('a'+r.Intn(26)))] = strconv.Itoa(r.Intn(5))
		}
		var l []proof.Pair
		for c := 'a'; c <= 'z'; c++ {
			if v := present[string(c)]; v != "" {
				l = append(l, proof.Pair{Key: string(c), Val: v})
			}
		}
		root := proof.Root(l)
		for c := 'a'; c <= 'z'; c++ {
			key := string(c)
			p := proof.Make(l, key)
			has := proof.Has(root, p, key, present[key])
			if has != (present[key] != "") || proof.Lacks(root, p, key) == has {
				t.Fatalf("%q in %q: Has is %t", key, l, has)
			}
			if proof.Has(root, p, key, "9") || !proof.May(p) {
				t.Fatalf("%q has another value", key)
			}
		}
	}
}

func TestMemory(t *testing.T) { // P0.4
	l := letters("bdfh")
	p, q := proof.Make(l, "c"), proof.Make(l, "c")
	p.Leaves[0].Key = "x"
	p.Leaves[0].Path[0] = api.Hash{}
	_ = append(p.Leaves[0].Path, api.Hash{9})
	if !proof.Same(q, proof.Make(l, "c")) || p.Leaves[1].Path[0] == (api.Hash{}) || l[0].Key != "b" {
		t.Error("proofs share memory")
	}
}
