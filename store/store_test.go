package store_test

import (
	"maps"
	"math/rand"
	"slices"
	"strconv"
	"strings"
	"testing"

	"lighterman/api"
	"lighterman/proof"
	"lighterman/store"
)

func filled(keys ...string) *store.Store {
	s := store.New()
	for i, k := range keys {
		s.Set(k, strconv.Itoa(i))
	}
	return s
}

func keys(l []proof.Pair) []string {
	var all []string
	for _, p := range l {
		all = append(all, p.Key)
	}
	return all
}

func TestSetAndDrop(t *testing.T) { // P12.1
	s := store.New()
	if s.Len() != 0 || len(s.Pairs()) != 0 {
		t.Error("a new store is not empty")
	}
	if s.Set("a", "1") != api.OK || s.Set("a", "2") != api.OK || s.Drop("b") {
		t.Error("Set or Drop")
	}
	if v, ok := s.Get("a"); v != "2" || !ok || s.Len() != 1 {
		t.Errorf("Get: %q, %t", v, ok)
	}
	for _, p := range []proof.Pair{
		{Key: "", Val: "x"}, {Key: "x", Val: ""}, {Key: strings.Repeat("k", api.MaxKey+1), Val: "x"},
		{Key: "a", Val: strings.Repeat("v", api.MaxVal+1)}, {Key: "a", Val: ""},
	} {
		if e := s.Set(p.Key, p.Val); e != api.ErrRange {
			t.Errorf("Set(%q, %q): %d", p.Key, p.Val, e)
		}
	}
	long := strings.Repeat("k", api.MaxKey)
	if s.Set(long, strings.Repeat("v", api.MaxVal)) != api.OK || s.Len() != 2 {
		t.Error("Set at the bounds")
	}
	if v, ok := s.Get("a"); v != "2" || !ok {
		t.Error("a refused Set has changed the store")
	}
	if !s.Drop("a") || s.Drop("a") || s.Drop("") || s.Len() != 1 {
		t.Error("Drop")
	}
	if v, ok := s.Get("a"); v != "" || ok {
		t.Errorf("Get of a removed key: %q, %t", v, ok)
	}
}

func TestPairsAndUnder(t *testing.T) { // P12.1
	s := filled("b", "ab", "a", "abc", "\xff", "ac", "\xff\xff", "b\x00")
	want := []string{"a", "ab", "abc", "ac", "b", "b\x00", "\xff", "\xff\xff"}
	if got := keys(s.Pairs()); !slices.Equal(got, want) {
		t.Errorf("Pairs: %q", got)
	}
	for front, want := range map[string][]string{
		"": want, "a": want[:4], "ab": want[1:3], "abcd": nil, "b": want[4:6], "\xff": want[6:], "aa": nil, "c": nil, "\xff\xff\xff": nil,
	} {
		if got := keys(s.Under(front)); !slices.Equal(got, want) {
			t.Errorf("Under(%q): %q", front, got)
		}
	}
	if p := s.Under("ac"); len(p) != 1 || p[0] != (proof.Pair{Key: "ac", Val: "5"}) {
		t.Errorf("Under(ac): %q", p)
	}
}

func TestRootAndProve(t *testing.T) { // P12.2
	s := store.New()
	for _, k := range []string{"", "d", "b", "f", "h"} {
		s.Set(k, "1")
		if s.Root() != proof.Root(s.Pairs()) {
			t.Errorf("Root of %d pairs", s.Len())
		}
		for _, key := range []string{"", "a", "b", "c", "h", "z"} {
			if !proof.Same(s.Prove(key), proof.Make(s.Pairs(), key)) {
				t.Errorf("Prove(%q) of %d pairs", key, s.Len())
			}
		}
	}
}

func TestCopy(t *testing.T) { // P12.2
	s := filled("a", "b", "c")
	root := s.Root()
	c := s.Copy()
	c.Set("b", "x")
	c.Set("d", "x")
	if s.Root() != root || s.Len() != 3 {
		t.Error("a change of the copy is seen in the store")
	}
	d := s.Copy()
	s.Drop("a")
	s.Set("b", "y")
	if d.Root() != root || d.Len() != 3 {
		t.Error("a change of the store is seen in the copy")
	}
}

func TestOrderDoesNotMatter(t *testing.T) { // P12.3
	r := rand.New(rand.NewSource(12))
	s, model := store.New(), map[string]string{}
	for range 5000 {
		k := "k" + strconv.Itoa(r.Intn(60))
		if r.Intn(3) == 0 {
			_, had := model[k]
			delete(model, k)
			if s.Drop(k) != had {
				t.Fatalf("Drop(%s)", k)
			}
			continue
		}
		model[k] = strconv.Itoa(r.Intn(9))
		s.Set(k, model[k])
	}
	again := store.New()
	for _, k := range slices.Backward(slices.Sorted(maps.Keys(model))) {
		again.Set(k, model[k])
	}
	if s.Root() != again.Root() || !slices.Equal(s.Pairs(), again.Pairs()) || s.Len() != len(model) {
		t.Error("the root depends on the order of the operations")
	}
}

func TestMemory(t *testing.T) { // P0.4
	s := filled("a", "ab", "b")
	root := s.Root()
	for _, l := range [][]proof.Pair{s.Pairs(), s.Under("a"), s.Under("")} {
		l[0].Val = "x"
		_ = append(l[:1], proof.Pair{Key: "z", Val: "z"})
	}
	p := s.Prove("b")
	p.Leaves[0].Path[0] = api.Hash{}
	if s.Root() != root {
		t.Error("a list that was returned is part of the store")
	}
}
