package tree_test

import (
	"math"
	"slices"
	"strings"
	"testing"

	"lighterman/api"
	"lighterman/sha"
	"lighterman/tree"
)

// leaves returns n different hashes.
func leaves(n int) []api.Hash {
	var l []api.Hash
	for i := range n {
		l = append(l, api.Hash{0: byte(i), 1: byte(i >> 8), 31: 1})
	}
	return l
}

func text(h api.Hash) string { return string(h[:]) }

func TestLeafNodeRoot(t *testing.T) { // P6.1
	a, b := api.Hash{1}, api.Hash{2}
	if tree.Leaf("ab", "c") != sha.Sum("\x00\x00\x00\x00\x00\x00\x00\x00\x02abc") {
		t.Error("Leaf(ab, c)")
	}
	if tree.Leaf("", "") != sha.Sum(strings.Repeat("\x00", 9)) {
		t.Error("Leaf of empty strings")
	}
	if tree.Leaf("a", "bc") == tree.Leaf("ab", "c") {
		t.Error("Leaf does not separate key and value")
	}
	if tree.Node(a, b) != sha.Sum("\x01"+text(a)+text(b)) {
		t.Error("Node")
	}
	if tree.Root(258, a) != sha.Sum("\x02\x00\x00\x00\x00\x00\x00\x01\x02"+text(a)) {
		t.Error("Root")
	}
	if tree.Root(0, api.Hash{}) != sha.Sum("\x02"+strings.Repeat("\x00", 40)) {
		t.Error("Root of no leaves")
	}
	if tree.Root(api.MaxLeaves, a) == (api.Hash{}) {
		t.Error("Root of MaxLeaves is zero")
	}
	for _, n := range []int{-1, api.MaxLeaves + 1, math.MaxInt, math.MinInt} {
		if tree.Root(n, a) != (api.Hash{}) {
			t.Errorf("Root(%d) is not zero", n)
		}
	}
}

func TestHalf(t *testing.T) { // P6.2
	for n, want := range map[int]int{
		0: 0, 1: 0, 2: 1, 3: 2, 4: 2, 5: 4, 8: 4, 9: 8, api.MaxLeaves: api.MaxLeaves / 2, api.MaxLeaves/2 + 1: api.MaxLeaves / 2,
		api.MaxLeaves + 1: 0, -1: 0, -8: 0, math.MinInt: 0, math.MaxInt: 0,
	} {
		if got := tree.Half(n); got != want {
			t.Errorf("Half(%d) is %d", n, got)
		}
	}
}

func TestTop(t *testing.T) { // P6.2
	l := leaves(7)
	if tree.Top(nil) != (api.Hash{}) || tree.Top([]api.Hash{}) != (api.Hash{}) || tree.Top(l[:1]) != l[0] {
		t.Error("Top of no leaf or one")
	}
	if tree.Top(l[:2]) != tree.Node(l[0], l[1]) {
		t.Error("Top of two leaves")
	}
	if tree.Top(l[:3]) != tree.Node(tree.Node(l[0], l[1]), l[2]) {
		t.Error("Top of three leaves")
	}
	left := tree.Node(tree.Node(l[0], l[1]), tree.Node(l[2], l[3]))
	if tree.Top(l[:5]) != tree.Node(left, l[4]) {
		t.Error("Top of five leaves")
	}
	if tree.Top(l) != tree.Node(left, tree.Node(tree.Node(l[4], l[5]), l[6])) {
		t.Error("Top of seven leaves")
	}
}

func TestWay(t *testing.T) { // P6.3
	l := leaves(5)
	low, left := tree.Node(l[0], l[1]), tree.Top(l[:4])
	for i, want := range [][]api.Hash{
		{l[1], tree.Node(l[2], l[3]), l[4]}, {l[0], tree.Node(l[2], l[3]), l[4]},
		{l[3], low, l[4]}, {l[2], low, l[4]}, {left},
	} {
		if got := tree.Way(l, i); !slices.Equal(got, want) {
			t.Errorf("Way of leaf %d is %x", i, got)
		}
	}
	for _, i := range []int{-1, 5, math.MaxInt, math.MinInt} {
		if got := tree.Way(l, i); len(got) != 0 {
			t.Errorf("Way of leaf %d is %x", i, got)
		}
	}
	if len(tree.Way(l[:1], 0)) != 0 || len(tree.Way(nil, 0)) != 0 {
		t.Error("Way of one leaf or none")
	}
}

func TestDeep(t *testing.T) { // P6.3
	for _, c := range []struct{ n, i, want int }{
		{5, 4, 1}, {5, 0, 3}, {1, 0, 0}, {2, 1, 1}, {7, 6, 2}, {8, 7, 3},
		{api.MaxLeaves, 0, 30}, {api.MaxLeaves, api.MaxLeaves - 1, 30}, {api.MaxLeaves/2 + 1, api.MaxLeaves / 2, 1},
		{0, 0, 0}, {5, 5, 0}, {5, -1, 0}, {-3, -4, 0}, {api.MaxLeaves + 1, 0, 0}, {math.MaxInt, 1, 0}, {math.MinInt, 0, 0},
	} {
		if got := tree.Deep(c.n, c.i); got != c.want {
			t.Errorf("Deep(%d, %d) is %d", c.n, c.i, got)
		}
	}
	for n := 1; n < 70; n++ {
		for i := range n {
			if tree.Deep(n, i) != len(tree.Way(leaves(n), i)) {
				t.Errorf("Deep(%d, %d) is %d", n, i, tree.Deep(n, i))
			}
		}
	}
}

func TestFoldRefuses(t *testing.T) { // P6.3
	way := leaves(31)
	for _, c := range []struct{ n, i, hashes int }{
		{0, 0, 0}, {-1, 0, 0}, {1, 1, 0}, {1, -1, 0}, {1, 0, 1}, {5, 4, 0}, {5, 4, 2}, {5, 0, 1}, {5, 5, 0},
		{api.MaxLeaves + 1, 0, 0}, {api.MaxLeaves + 1, 0, 31}, {math.MaxInt, 0, 0}, {math.MinInt, -1, 0}, {api.MaxLeaves, 0, 31}, {api.MaxLeaves, 0, 29},
	} {
		if h, ok := tree.Fold(c.n, c.i, way[0], way[:c.hashes]); h != (api.Hash{}) || ok {
			t.Errorf("Fold(%d, %d) of %d hashes is %x, %t", c.n, c.i, c.hashes, h, ok)
		}
	}
	if h, ok := tree.Fold(api.MaxLeaves, 1, way[30], way[:30]); h == (api.Hash{}) || !ok {
		t.Error("Fold in a tree of MaxLeaves is refused")
	}
}

func TestFoldOfWay(t *testing.T) { // P6.4
	for n := 1; n < 40; n++ {
		l := leaves(n)
		for i := range n {
			if top, ok := tree.Fold(n, i, l[i], tree.Way(l, i)); !ok || top != tree.Top(l) {
				t.Errorf("Fold of leaf %d of %d is %x, %t", i, n, top, ok)
			}
		}
	}
}

func TestMemory(t *testing.T) { // P0.4
	back := leaves(9)
	l := back[:5]
	want := slices.Clone(back)
	way := tree.Way(l, 4)
	_ = append(way, api.Hash{9})
	way[0] = api.Hash{8}
	if !slices.Equal(back, want) || tree.Way(l, 4)[0] != tree.Top(l[:4]) {
		t.Error("a list that was returned is shared")
	}
}
