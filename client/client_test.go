package client_test

import (
	"math"
	"slices"
	"testing"

	"lighterman/api"
	"lighterman/client"
)

func header(height, time int, root byte) api.Header {
	return api.Header{Height: height, Time: time, Root: api.Hash{31: root}}
}

func TestCheck(t *testing.T) { // P14.1
	h := header(3, 5, 1)
	c := client.New()
	c.Update(h, []api.Header{h})
	told := []api.Header{header(1, 0, 1), h, header(3, 5, 2), header(3, 6, 1), header(api.MaxHeight, api.MaxTime, 1), header(0, 0, 1), header(2, -1, 1)}
	for _, x := range []struct {
		h    api.Header
		told []api.Header
		want api.Errno
	}{
		{header(1, 0, 1), told, api.OK}, {h, told, api.OK}, {header(api.MaxHeight, api.MaxTime, 1), told, api.OK},
		{header(0, 0, 1), told, api.ErrRange}, {header(2, -1, 1), told, api.ErrRange}, {header(api.MaxHeight+1, 0, 1), nil, api.ErrRange},
		{header(1, api.MaxTime+1, 1), nil, api.ErrRange}, {header(-1, 0, 1), nil, api.ErrRange}, {header(math.MinInt, 0, 1), told, api.ErrRange},
		{header(1, 0, 2), told, api.ErrHeader}, {header(1, 1, 1), told, api.ErrHeader}, {header(2, 0, 1), told, api.ErrHeader},
		{h, nil, api.ErrHeader}, {h, told[2:], api.ErrHeader}, {header(3, 5, 3), told, api.ErrHeader},
		{header(3, 5, 2), told, api.ErrTwice}, {header(3, 6, 1), told, api.ErrTwice},
	} {
		if e := c.Check(x.h, x.told); e != x.want {
			t.Errorf("Check(%v): %d, not %d", x.h, e, x.want)
		}
		d := c.Copy()
		fresh, e := d.Update(x.h, x.told)
		if e != x.want || fresh != (e == api.OK && x.h != h) {
			t.Errorf("Update(%v): %t, %d", x.h, fresh, e)
		}
		if e != api.OK && !slices.Equal(c.States(), d.States()) {
			t.Errorf("a refused Update(%v) has changed the client", x.h)
		}
	}
}

func TestUpdateTwice(t *testing.T) { // P14.1
	c, h := client.New(), header(2, 1, 1)
	for _, want := range []bool{true, false, false} {
		if fresh, e := c.Update(h, []api.Header{h}); fresh != want || e != api.OK {
			t.Errorf("Update: %t, %d", fresh, e)
		}
	}
}

func TestStates(t *testing.T) { // P14.2
	c := client.New()
	if c.Last() != 0 || len(c.States()) != 0 {
		t.Error("a new client knows headers")
	}
	told := []api.Header{header(5, 1, 1), header(1, 2, 2), header(9, 3, 3), header(3, 0, 4)}
	for _, h := range told {
		c.Update(h, told)
	}
	want := []api.Header{told[1], told[3], told[0], told[2]}
	if !slices.Equal(c.States(), want) || c.Last() != 9 {
		t.Errorf("States: %v, Last %d", c.States(), c.Last())
	}
	for _, h := range told {
		if got, ok := c.State(h.Height); got != h || !ok {
			t.Errorf("State(%d): %v, %t", h.Height, got, ok)
		}
	}
	for _, height := range []int{0, 2, 10, -1, math.MinInt} {
		if got, ok := c.State(height); got != (api.Header{}) || ok {
			t.Errorf("State(%d): %v, %t", height, got, ok)
		}
	}
	l := c.States()
	l[0].Time = 99
	_ = append(l[:1], api.Header{})
	told[0].Time = 99
	if !slices.Equal(c.States(), want) {
		t.Error("a list is part of the client")
	}
}

func TestCopy(t *testing.T) { // P14.2
	c, a, b := client.New(), header(1, 0, 1), header(2, 0, 1)
	c.Update(a, []api.Header{a})
	d := c.Copy()
	d.Update(b, []api.Header{b})
	if c.Last() != 1 || d.Last() != 2 || len(d.States()) != 2 {
		t.Error("a change of the copy is seen in the client")
	}
	e := c.Copy()
	c.Update(b, []api.Header{b})
	if e.Last() != 1 {
		t.Error("a change of the client is seen in the copy")
	}
}
