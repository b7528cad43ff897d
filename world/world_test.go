package world_test

import (
	"math"
	"slices"
	"strings"
	"testing"

	"lighterman/api"
	"lighterman/conf"
	"lighterman/driver"
	"lighterman/msg"
	"lighterman/scene"
	"lighterman/world"
)

func newWorld(t *testing.T, c api.Conf) *world.World {
	t.Helper()
	w, e := world.New(c, 1)
	if e != api.OK {
		t.Fatalf("New: %d", e)
	}
	return w
}

func both() []api.Act {
	return []api.Act{{Kind: api.ActCommit, Side: 0}, {Kind: api.ActCommit, Side: 1}}
}

func isZero(o world.Outcome) bool {
	return o.Code == api.OK && o.Seq == 0 && o.Done.Code == api.OK && o.Done.Gas == 0 && len(o.Done.Results) == 0 && noReport(o.Report)
}

func noReport(r driver.Report) bool {
	return len(r.Items)+len(r.Skipped)+len(r.Txs)+len(r.MissA)+len(r.MissB)+r.Bad == 0
}

func TestNew(t *testing.T) { // P31.1
	bad := scene.Conf()
	bad.Interval = 0
	if w, e := world.New(bad, 1); w != nil || e != api.ErrRange {
		t.Errorf("New of a bad configuration: %d", e)
	}
	for _, first := range []int{0, -1, api.MaxSeq + 2, math.MinInt} {
		if w, e := world.New(scene.Conf(), first); w != nil || e != api.ErrRange {
			t.Errorf("New with first %d: %d", first, e)
		}
	}
	ruled := func() api.Conf {
		c := scene.Conf()
		c.Rules = []api.Rule{{Pattern: "x"}}
		return c
	}
	c := ruled()
	w, e := world.New(c, api.MaxSeq+1)
	if e != api.OK || w.Turns() != 0 || !conf.Same(w.Conf(), c) || !w.Rest() {
		t.Errorf("New: %d", e)
	}
	for side, name := range []string{"east", "west"} {
		x := w.Chain(side)
		if x.Name() != name || x.Height() != 1 || x.Last() != 0 || len(x.Pairs()) != 8 || x.Limits() != conf.Limits(c, side) || len(w.Kept(side)) != 0 {
			t.Errorf("the chain of side %d", side)
		}
	}
	c.Paths[0].A.Chan, c.Rules[0].Allow = 99, true
	w.Conf().Paths[1].A.Chan = 99
	w.Conf().Rules[0].Pattern = "y"
	if !conf.Same(w.Conf(), ruled()) {
		t.Error("the configuration is shared")
	}
}

func TestActsThatAreRefused(t *testing.T) { // P31.2
	w := newWorld(t, scene.Conf())
	for _, kind := range []int{0, -1, 7, math.MinInt} {
		for _, side := range []int{0, 1, 2} {
			if o := w.Do(api.Act{Kind: kind, Side: side}); o.Code != api.ErrRange {
				t.Errorf("kind %d on side %d: %d", kind, side, o.Code)
			}
		}
	}
	for _, kind := range []int{api.ActSend, api.ActTick, api.ActCommit, api.ActRaw} {
		for _, side := range []int{-1, 2, math.MaxInt} {
			o := w.Do(api.Act{Kind: kind, Side: side, Chan: 9})
			if o.Code != api.ErrRange || o.Done.Code != api.OK || o.Seq != 0 {
				t.Errorf("kind %d on side %d: %v", kind, side, o)
			}
		}
	}
	for _, kind := range []int{api.ActRound, api.ActTurn} {
		if o := w.Do(api.Act{Kind: kind, Side: 9, Chan: 9, N: -1, M: -1, Data: "x"}); !isZero(o) {
			t.Errorf("kind %d: %v", kind, o)
		}
	}
	if w.Chain(0).Height() != 1 || w.Chain(1).Height() != 1 {
		t.Error("a refused act has changed a chain")
	}
}

func TestSendTickCommit(t *testing.T) { // P31.2
	w := newWorld(t, scene.Conf())
	for i, c := range []struct {
		x    api.Act
		want api.Errno
		seq  int
	}{
		{api.Act{Kind: api.ActSend, Data: "x", N: 5, M: 6}, api.OK, 1}, {api.Act{Kind: api.ActSend, Data: "x"}, api.OK, 2}, {api.Act{Kind: api.ActSend, Side: 1, Chan: 1}, api.OK, 1},
		{api.Act{Kind: api.ActSend, Chan: 2}, api.ErrChannel, 0}, {api.Act{Kind: api.ActSend, Chan: -1}, api.ErrChannel, 0}, {api.Act{Kind: api.ActSend, Chan: math.MaxInt}, api.ErrChannel, 0},
		{api.Act{Kind: api.ActSend, N: -1}, api.ErrRange, 0}, {api.Act{Kind: api.ActSend, Data: strings.Repeat("x", 201)}, api.ErrRange, 0},
		{api.Act{Kind: api.ActTick, Side: 1, N: 3}, api.OK, 0}, {api.Act{Kind: api.ActTick, Side: 1, N: -3}, api.ErrRange, 0}, {api.Act{Kind: api.ActTick, N: api.MaxTime + 1}, api.ErrOver, 0},
		{api.Act{Kind: api.ActCommit, Side: 1}, api.OK, 0},
	} {
		if o := w.Do(c.x); o.Code != c.want || o.Seq != c.seq || len(o.Done.Results) != 0 || !noReport(o.Report) {
			t.Errorf("act %d: %v", i, o)
		}
	}
	want := []api.Event{
		{Kind: api.EvSend, Packet: api.Packet{Src: scene.Open(0), Dst: scene.Open(1), Seq: 1, Data: "x", TimeHeight: 5, TimeAt: 6}},
		{Kind: api.EvSend, Packet: api.Packet{Src: scene.Open(0), Dst: scene.Open(1), Seq: 2, Data: "x"}},
	}
	if !slices.Equal(w.Chain(0).Pending(), want) || w.Chain(1).Height() != 2 || w.Chain(1).Time() != 3 || w.Chain(0).Height() != 1 {
		t.Errorf("Pending: %v", w.Chain(0).Pending())
	}
	if w.Chain(2) != nil || w.Chain(-1) != nil {
		t.Error("the chain of no side")
	}
}

func TestRaw(t *testing.T) { // P31.2
	w := newWorld(t, scene.Conf())
	w.Run(both())
	h, _ := w.Chain(1).Header(1)
	tx, _ := msg.Tx([]api.Msg{{Kind: api.MsgUpdate, Header: h}})
	if o := w.Do(api.Act{Kind: api.ActRaw, Data: tx}); o.Code != api.OK || len(o.Done.Results) != 1 || o.Done.Results[0].Code != api.OK || !w.Chain(0).Known(1) {
		t.Errorf("a transaction: %v", o)
	}
	if o := w.Do(api.Act{Kind: api.ActRaw, Side: 1, Data: tx}); o.Code != api.OK || o.Done.Results[0].Code != api.ErrHeader {
		t.Errorf("a transaction to the other side: %v", o)
	}
	for data, want := range map[string]api.Errno{"": api.ErrShort, "\x00x": api.ErrForm, "\xff": api.ErrShort, tx + "x": api.ErrForm} {
		if o := w.Do(api.Act{Kind: api.ActRaw, Data: data}); o.Code != want || o.Done.Code != want || len(o.Done.Results) != 0 {
			t.Errorf("the bytes %x: %v", data, o)
		}
	}
}

func TestRoundsAndTurns(t *testing.T) { // P31.2
	c := scene.Conf()
	c.Interval = 3
	w := newWorld(t, c)
	w.Do(api.Act{Kind: api.ActSend, Data: "x"})
	w.Run(both())
	for turn := 1; turn <= 3; turn++ {
		o := w.Do(api.Act{Kind: api.ActTurn})
		if w.Turns() != turn || o.Code != api.OK || (len(o.Report.Items) == 1) != (turn == 3) || turn < 3 && !noReport(o.Report) {
			t.Errorf("turn %d: %v", turn, o)
		}
	}
	w.Run(both())
	o := w.Do(api.Act{Kind: api.ActRound})
	want := []api.Item{{Kind: api.Ack, To: 0, End: scene.Open(0), Seq: 1}}
	if o.Code != api.OK || !slices.Equal(o.Report.Items, want) || len(o.Report.Txs) != 1 || w.Turns() != 3 || o.Report.Bad != 0 || len(o.Report.MissA) != 0 {
		t.Errorf("a round: %v", o)
	}
	if !w.Rest() {
		t.Errorf("kept: %v", w.Kept(0))
	}
}

func TestRun(t *testing.T) { // P31.2
	w := newWorld(t, scene.Conf())
	acts := []api.Act{{Kind: api.ActSend}, {Kind: api.ActSend, Chan: 9}, {Kind: 9}, {Kind: api.ActTurn}, {Kind: api.ActCommit}, {Kind: api.ActRaw}, {Kind: api.ActRound}}
	if n := w.Run(acts); n != 4 || w.Run(nil) != 0 || w.Chain(0).Height() != 2 {
		t.Errorf("Run: %d", n)
	}
}

func TestKeptAndRest(t *testing.T) { // P31.3
	w := newWorld(t, scene.Conf())
	for range 11 {
		w.Do(api.Act{Kind: api.ActSend})
	}
	w.Do(api.Act{Kind: api.ActSend, Chan: 1})
	var want []string
	for _, n := range []string{"1", "10", "11", "2", "3", "4", "5", "6", "7", "8", "9"} {
		want = append(want, "commitments/ports/open/channels/channel-10/sequences/"+n)
	}
	want = append(want, "commitments/ports/queue/channels/channel-20/sequences/1")
	if !slices.Equal(w.Kept(0), want) || len(w.Kept(1)) != 0 || w.Rest() {
		t.Errorf("Kept: %v", w.Kept(0))
	}
	for _, side := range []int{-1, 2, math.MaxInt} {
		if len(w.Kept(side)) != 0 {
			t.Errorf("Kept of side %d", side)
		}
	}
	other := newWorld(t, scene.Conf())
	other.Do(api.Act{Kind: api.ActSend, Side: 1})
	if other.Rest() || len(other.Kept(0)) != 0 || len(other.Kept(1)) != 1 {
		t.Error("a packet of side 1")
	}
}
