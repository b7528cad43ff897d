package past_test

import (
	"math"
	"slices"
	"strconv"
	"testing"

	"lighterman/api"
	"lighterman/past"
	"lighterman/proof"
	"lighterman/store"
)

func TestKeep(t *testing.T) { // P13.1
	p, s := past.New(), store.New()
	if p.Last() != 0 || len(p.Headers()) != 0 {
		t.Error("a new object has heights")
	}
	for _, c := range []struct {
		height, time int
		want         api.Errno
	}{
		{0, 0, api.ErrRange}, {-1, 0, api.ErrRange}, {api.MaxHeight + 1, 0, api.ErrRange}, {math.MinInt, 0, api.ErrRange},
		{1, -1, api.ErrRange}, {1, api.MaxTime + 1, api.ErrRange}, {5, api.MaxTime, api.OK}, {5, 0, api.ErrOrder}, {4, 0, api.ErrOrder},
		{4, -1, api.ErrRange}, {0, 0, api.ErrRange}, {6, 0, api.OK}, {api.MaxHeight, 0, api.OK}, {api.MaxHeight, 0, api.ErrOrder},
	} {
		if e := p.Keep(c.height, c.time, s); e != c.want {
			t.Errorf("Keep(%d, %d): %d", c.height, c.time, e)
		}
	}
	if p.Last() != api.MaxHeight || len(p.Headers()) != 3 {
		t.Errorf("Last is %d, there are %d headers", p.Last(), len(p.Headers()))
	}
}

func TestHeaders(t *testing.T) { // P13.1
	p, s := past.New(), store.New()
	var want []api.Header
	for i, h := range []int{1, 3, 10} {
		s.Set("k"+strconv.Itoa(i), "v")
		p.Keep(h, 7*i, s)
		want = append(want, api.Header{Height: h, Time: 7 * i, Root: s.Root()})
	}
	p.Keep(10, 99, s)
	s.Drop("k0")
	if !slices.Equal(p.Headers(), want) || p.Last() != 10 {
		t.Errorf("Headers: %v", p.Headers())
	}
	for _, h := range want {
		if got, ok := p.Header(h.Height); got != h || !ok {
			t.Errorf("Header(%d): %v, %t", h.Height, got, ok)
		}
	}
	for _, h := range []int{0, 2, 4, 9, 11, -1, math.MinInt, math.MaxInt} {
		if got, ok := p.Header(h); got != (api.Header{}) || ok {
			t.Errorf("Header(%d): %v, %t", h, got, ok)
		}
	}
	l := p.Headers()
	l[0].Time = 5
	_ = append(l[:1], api.Header{})
	if !slices.Equal(p.Headers(), want) {
		t.Error("a list that was returned is part of the object")
	}
}

func TestContents(t *testing.T) { // P13.2, P13.3
	p, s := past.New(), store.New()
	p.Keep(1, 0, s)
	s.Set("a", "1")
	s.Set("ab", "2")
	s.Set("b", "3")
	p.Keep(3, 5, s)
	was := s.Copy()
	s.Set("a", "9")
	s.Drop("b")
	p.Keep(4, 5, s)
	s.Set("c", "8")
	for height, x := range map[int]*store.Store{1: store.New(), 3: was, 4: filled("a", "9", "ab", "2")} {
		for _, key := range []string{"", "a", "aa", "ab", "b", "c", "z"} {
			v, ok := p.Get(height, key)
			if w, had := x.Get(key); v != w || ok != had {
				t.Errorf("Get(%d, %q): %q, %t", height, key, v, ok)
			}
			q, e := p.Prove(height, key)
			if !proof.Same(q, x.Prove(key)) || e != api.OK {
				t.Errorf("Prove(%d, %q): %v, %d", height, key, q, e)
			}
			if l := p.Under(height, key); !slices.Equal(l, x.Under(key)) {
				t.Errorf("Under(%d, %q): %q", height, key, l)
			}
		}
	}
	l := p.Under(3, "")
	l[0].Val = "x"
	_ = append(l[:1], proof.Pair{})
	if !slices.Equal(p.Under(3, ""), was.Pairs()) {
		t.Error("a list that was returned is part of the object")
	}
}

func filled(pairs ...string) *store.Store {
	s := store.New()
	for i := 0; i < len(pairs); i += 2 {
		s.Set(pairs[i], pairs[i+1])
	}
	return s
}

func TestNotRecorded(t *testing.T) { // P13.2
	p := past.New()
	p.Keep(3, 0, filled("a", "1"))
	for _, h := range []int{0, 1, 2, 4, -3, math.MaxInt} {
		if v, ok := p.Get(h, "a"); v != "" || ok {
			t.Errorf("Get(%d): %q, %t", h, v, ok)
		}
		if q, e := p.Prove(h, "a"); !proof.Same(q, api.Proof{}) || e != api.ErrNone {
			t.Errorf("Prove(%d): %v, %d", h, q, e)
		}
		if l := p.Under(h, ""); len(l) != 0 {
			t.Errorf("Under(%d): %q", h, l)
		}
	}
}
