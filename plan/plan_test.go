package plan_test

import (
	"slices"
	"testing"

	"lighterman/api"
	"lighterman/life"
	"lighterman/plan"
	"lighterman/scene"
)

func jobs(s *scene.Scene) []plan.Job {
	t := s.Tables()
	return plan.Jobs(s.Chains[0], s.Chains[1], s.Conf, t[0], t[1])
}

func item(kind, to int, p api.Packet) api.Item {
	return api.Item{Kind: kind, To: to, End: p.Src, Seq: p.Seq}
}

func check(t *testing.T, step string, s *scene.Scene, want ...plan.Job) {
	t.Helper()
	if got := jobs(s); !slices.Equal(got, want) {
		t.Errorf("%s: %v, not %v", step, got, want)
	}
}

func TestPaths(t *testing.T) { // P27.1
	c := scene.Conf()
	if got := plan.Paths(c); !slices.Equal(got, c.Paths) {
		t.Errorf("Paths: %v", got)
	}
	c.Rules = []api.Rule{{Allow: true, Pattern: "queue/*"}}
	if got := plan.Paths(c); !slices.Equal(got, c.Paths[1:]) {
		t.Errorf("Paths: %v", got)
	}
	c.Rules = []api.Rule{{Pattern: "*"}}
	if got := plan.Paths(c); len(got) != 0 {
		t.Errorf("Paths: %v", got)
	}
	c.Rules = nil
	plan.Paths(c)[0].Ordered = true
	if c.Paths[0].Ordered {
		t.Error("Paths is part of its argument")
	}
}

func TestLessAndSame(t *testing.T) { // P27.1
	at := func(kind, to int, port string, n, seq int) api.Item {
		return api.Item{Kind: kind, To: to, End: api.End{Port: port, Chan: n}, Seq: seq}
	}
	rising := []api.Item{
		at(api.Recv, 0, "b", 9, 9), at(api.Ack, 0, "a", 2, 1), at(api.Ack, 0, "a", 2, 2), at(api.Ack, 0, "a", 10, 1), at(api.Ack, 0, "b", 1, 1),
		at(api.Timeout, 0, "a", 1, 1), at(api.OnClose, 0, "a", 1, 2), at(api.Timeout, 0, "a", 1, 3), at(api.OnClose, 0, "b", 0, 1), at(api.Wait, 0, "a", 0, 0), at(api.Gone, 1, "a", 0, 0),
	}
	for i, x := range rising {
		for k, y := range rising {
			if plan.Less(x, y) != (i < k) {
				t.Errorf("Less(%v, %v) is %t", x, y, i >= k)
			}
		}
	}
	if plan.Less(at(api.Timeout, 0, "a", 1, 1), at(api.OnClose, 0, "a", 1, 1)) || plan.Less(at(api.OnClose, 0, "a", 1, 1), at(api.Timeout, 0, "a", 1, 1)) {
		t.Error("OnClose does not count as Timeout")
	}
	if !plan.Same(nil, []api.Item{}) || !plan.Same(rising, slices.Clone(rising)) || plan.Same(rising, rising[1:]) || plan.Same(rising[:2], []api.Item{rising[1], rising[0]}) || plan.Same(rising[5:6], []api.Item{at(api.OnClose, 0, "a", 1, 1)}) {
		t.Error("Same")
	}
}

func TestItems(t *testing.T) { // P27.1
	l := []plan.Job{{Item: api.Item{Kind: 1, Seq: 4}}, {Item: api.Item{Kind: 2, To: 1}}}
	if got := plan.Items(l); !slices.Equal(got, []api.Item{l[0].Item, l[1].Item}) || len(plan.Items(nil)) != 0 {
		t.Errorf("Items: %v", got)
	}
}

func TestJobsUnordered(t *testing.T) { // P27.2
	s := scene.New()
	check(t, "new", s)
	p := s.Send(0, scene.Open(0), "p", 0, 0)
	q := s.Send(0, scene.Open(0), "q", 3, 0)
	back := s.Send(1, scene.Open(1), "back", 0, 0)
	check(t, "not committed", s)
	s.Commit()
	recv := func(to int, p api.Packet, height int) plan.Job {
		return plan.Job{Item: item(api.Recv, to, p), Packet: p, Height: height}
	}
	check(t, "sent", s, recv(0, back, 1), recv(1, p, 1), recv(1, q, 1))
	s.Do(1, s.Recv(1, p))
	check(t, "received", s, recv(0, back, 1), recv(1, q, 1))
	s.Chains[1].Commit()
	ack := plan.Job{Item: item(api.Ack, 0, p), Packet: p, Ack: "ok:p", Height: 2}
	check(t, "q expired, not committed", s, recv(0, back, 2), ack)
	s.Chains[1].Commit()
	ack.Height = 3
	timeout := plan.Job{Item: item(api.Timeout, 0, q), Packet: q, Height: 3}
	check(t, "q expired", s, recv(0, back, 3), ack, timeout)
	s.Conf.Rules = []api.Rule{{Pattern: "open/channel-10"}}
	check(t, "denied", s)
}

func TestJobsOrdered(t *testing.T) { // P27.2
	s := scene.New()
	e := scene.Ordered(0)
	o, p, q, r := s.Send(0, e, "o", 0, 0), s.Send(0, e, "p", 2, 0), s.Send(0, e, "q", 0, 0), s.Send(0, e, "r", 0, 0)
	back := s.Send(1, scene.Ordered(1), "back", 0, 0)
	s.Chains[0].Commit()
	recv := func(p api.Packet) plan.Job {
		return plan.Job{Item: item(api.Recv, 1, p), Packet: p, Height: 1, Ordered: true}
	}
	check(t, "sent", s, recv(o), recv(p), recv(q), recv(r))
	s.Do(1, s.Recv(1, o))
	s.Chains[1].Commit()
	ack := plan.Job{Item: item(api.Ack, 0, o), Packet: o, Ack: "ok:o", Height: 1, Ordered: true}
	recvBack := plan.Job{Item: item(api.Recv, 0, back), Packet: back, Height: 1, Ordered: true}
	check(t, "p expired, not committed", s, recvBack, ack)
	s.Chains[1].Commit()
	ack.Height, recvBack.Height = 2, 2
	timeout := func(kind, to int, p api.Packet, next int) plan.Job {
		return plan.Job{Item: item(kind, to, p), Packet: p, Next: next, Height: 2, Ordered: true}
	}
	check(t, "p expired", s, recvBack, ack, timeout(api.Timeout, 0, p, 2))
	s.Do(0, s.Timeout(0, p, 2))
	check(t, "the end is closed", s, ack, timeout(api.Timeout, 0, q, 2), timeout(api.Timeout, 0, r, 2))
	s.Chains[0].Commit()
	check(t, "the other direction", s, ack, timeout(api.Timeout, 0, q, 2), timeout(api.Timeout, 0, r, 2), timeout(api.OnClose, 1, back, 1))
}

func TestJobsKnowOnlyTheTables(t *testing.T) { // P27.2
	s := scene.New()
	p, q := s.Send(0, scene.Open(0), "p", 0, 0), s.Send(0, scene.Open(0), "q", 0, 0)
	s.Commit()
	known := life.New()
	known.Fold(api.Event{Kind: api.EvSend, Packet: q})
	known.Fold(api.Event{Kind: api.EvSend, Packet: api.Packet{Src: p.Src, Dst: p.Dst, Seq: 1, Data: "lie"}})
	got := plan.Items(plan.Jobs(s.Chains[0], s.Chains[1], s.Conf, known, life.New()))
	if !slices.Equal(got, []api.Item{item(api.Recv, 1, q)}) {
		t.Errorf("the items: %v", got)
	}
}

func TestNoItemTwice(t *testing.T) { // P27.3
	s := scene.New()
	for i := range 6 {
		for side := range 2 {
			s.Send(side, scene.Open(side), "x", 4*(i%2), 0)
			s.Send(side, scene.Ordered(side), "x", 5*(i/4), 0)
		}
	}
	for step := range 6 {
		s.Commit()
		l := jobs(s)
		items := plan.Items(l)
		for i := 1; i < len(items); i++ {
			if !plan.Less(items[i-1], items[i]) {
				t.Errorf("step %d: %v is not above %v", step, items[i], items[i-1])
			}
		}
		if step < 5 && len(l) == 0 {
			t.Errorf("step %d: no jobs", step)
		}
		if len(l) > 0 && l[0].Item.Kind == api.Recv {
			s.Do(l[0].Item.To, s.Recv(l[0].Item.To, l[0].Packet))
		}
	}
}
