package span_test

import (
	"math"
	"math/rand"
	"slices"
	"testing"

	"lighterman/api"
	"lighterman/span"
)

type ranges = []span.Range

func bad() []ranges {
	return []ranges{
		{{-1, 1}}, {{2, 1}}, {{0, api.MaxNum + 1}}, {{1, 2}, {3, 4}}, {{1, 2}, {2, 4}}, {{5, 6}, {1, 2}}, {{1, 2}, {1, 2}}, {{math.MinInt, math.MaxInt}},
		{{math.MaxInt, math.MaxInt}}, {{0, 0}, {math.MinInt, 5}}, {{0, api.MaxNum}, {0, 0}}, {{3, 3}, {7, 5}},
	}
}

func TestGood(t *testing.T) { // P23.1
	for _, l := range []ranges{nil, {}, {{0, 0}}, {{0, api.MaxNum}}, {{1, 2}, {4, 4}}, {{0, 0}, {2, 5}, {7, api.MaxNum}}} {
		if !span.Good(l) {
			t.Errorf("Good(%v) is false", l)
		}
	}
	for _, l := range bad() {
		if span.Good(l) {
			t.Errorf("Good(%v) is true", l)
		}
	}
}

func TestOf(t *testing.T) { // P23.1
	for _, c := range []struct {
		l    []int
		want ranges
	}{
		{nil, nil}, {[]int{3, 1, 2, 7}, ranges{{1, 3}, {7, 7}}}, {[]int{5, 5, 5}, ranges{{5, 5}}}, {[]int{-1, api.MaxNum + 1, math.MinInt, math.MaxInt}, nil},
		{[]int{api.MaxNum, 0, api.MaxNum - 1, -1}, ranges{{0, 0}, {api.MaxNum - 1, api.MaxNum}}}, {[]int{4, 2, 0}, ranges{{0, 0}, {2, 2}, {4, 4}}},
	} {
		given := slices.Clone(c.l)
		if got := span.Of(c.l...); !slices.Equal(got, c.want) || !slices.Equal(given, c.l) {
			t.Errorf("Of(%v): %v", given, got)
		}
	}
}

func TestHas(t *testing.T) { // P23.1
	l := ranges{{1, 3}, {7, 7}}
	for n, want := range map[int]bool{0: false, 1: true, 3: true, 4: false, 6: false, 7: true, 8: false, -1: false, math.MaxInt: false} {
		if span.Has(l, n) != want {
			t.Errorf("Has(%d) is not %t", n, want)
		}
	}
	if !span.Has(ranges{{5, 9}, {-3, 2}}, -1) || !span.Has(ranges{{5, 9}, {5, 9}}, 6) || span.Has(ranges{{9, 5}}, 7) {
		t.Error("Has of lists that are not Good")
	}
}

func TestLacks(t *testing.T) { // P23.2
	l := span.Of(3, 1, 2, 7)
	for _, c := range []struct {
		from, to int
		want     ranges
	}{
		{1, 9, ranges{{4, 6}, {8, 9}}}, {0, 0, ranges{{0, 0}}}, {1, 3, nil}, {2, 4, ranges{{4, 4}}}, {5, 5, ranges{{5, 5}}}, {5, 7, ranges{{5, 6}}}, {7, 7, nil}, {8, 8, ranges{{8, 8}}},
		{9, 1, nil}, {math.MinInt, math.MaxInt, ranges{{0, 0}, {4, 6}, {8, api.MaxNum}}}, {-5, -1, nil}, {api.MaxNum + 1, math.MaxInt, nil}, {math.MaxInt, math.MinInt, nil}, {api.MaxNum, math.MaxInt, ranges{{api.MaxNum, api.MaxNum}}},
	} {
		if got := span.Lacks(l, c.from, c.to); !slices.Equal(got, c.want) {
			t.Errorf("Lacks from %d to %d: %v", c.from, c.to, got)
		}
	}
	if got := span.Lacks(ranges{{0, api.MaxNum}}, math.MinInt, math.MaxInt); len(got) != 0 {
		t.Errorf("Lacks of all numbers: %v", got)
	}
	if got := span.Lacks(nil, 3, 4); !slices.Equal(got, ranges{{3, 4}}) {
		t.Errorf("Lacks of no numbers: %v", got)
	}
}

func TestCountAndAll(t *testing.T) { // P23.2
	l := span.Of(3, 1, 2, 7)
	for most, want := range map[int][]int{-1: nil, math.MinInt: nil, 0: nil, 1: {1}, 3: {1, 2, 3}, 4: {1, 2, 3, 7}, 5: {1, 2, 3, 7}, math.MaxInt: {1, 2, 3, 7}} {
		if got := span.All(l, most); !slices.Equal(got, want) {
			t.Errorf("All of %d: %v", most, got)
		}
	}
	if got := span.All(ranges{{0, api.MaxNum}}, 3); !slices.Equal(got, []int{0, 1, 2}) {
		t.Errorf("the first of all numbers: %v", got)
	}
	if span.Count(nil) != 0 || span.Count(l) != 4 || span.Count(ranges{{0, api.MaxNum}}) != api.MaxNum+1 {
		t.Error("Count")
	}
}

func TestNotGood(t *testing.T) { // P23.2
	for _, l := range bad() {
		if len(span.Add(l, 3)) != 0 || len(span.Add(l, -1)) != 0 || len(span.Lacks(l, 0, 9)) != 0 || span.Count(l) != 0 || len(span.All(l, 9)) != 0 {
			t.Errorf("a result for %v", l)
		}
	}
}

func TestAdd(t *testing.T) { // P23.2
	r := rand.New(rand.NewSource(23))
	for range 2000 {
		var numbers []int
		var l ranges
		for range r.Intn(12) {
			n := r.Intn(20) - 1
			numbers = append(numbers, n)
			was := slices.Clone(l)
			next := span.Add(l, n)
			if !slices.Equal(l, was) {
				t.Fatal("Add changes its argument")
			}
			l = next
			if !slices.Equal(l, span.Of(numbers...)) {
				t.Fatalf("Add of %v: %v", numbers, l)
			}
		}
	}
	whole := ranges{{0, api.MaxNum}}
	for _, n := range []int{0, api.MaxNum, -1, api.MaxNum + 1, math.MinInt, math.MaxInt} {
		if got := span.Add(whole, n); !slices.Equal(got, whole) {
			t.Errorf("Add(%d): %v", n, got)
		}
	}
	if got := span.Add(nil, api.MaxNum); !slices.Equal(got, ranges{{api.MaxNum, api.MaxNum}}) {
		t.Errorf("Add of MaxNum: %v", got)
	}
	same := span.Add(whole, -1)
	same[0].From = 9
	if whole[0].From != 0 {
		t.Error("Add returns its argument itself")
	}
}

func TestLacksAndContains(t *testing.T) { // P23.3
	r := rand.New(rand.NewSource(24))
	for range 2000 {
		var numbers []int
		for range r.Intn(12) {
			numbers = append(numbers, r.Intn(20))
		}
		l := span.Of(numbers...)
		from, to := r.Intn(22)-1, r.Intn(22)-1
		lacks := span.Lacks(l, from, to)
		if !span.Good(l) || !span.Good(lacks) {
			t.Fatalf("%v or %v is not Good", l, lacks)
		}
		for n := -2; n < 25; n++ {
			if span.Has(l, n) != slices.Contains(numbers, n) {
				t.Fatalf("Has(%v, %d)", l, n)
			}
			if want := n >= 0 && n >= from && n <= to && !span.Has(l, n); span.Has(lacks, n) != want {
				t.Fatalf("Lacks(%v, %d, %d): %v", l, from, to, lacks)
			}
		}
		slices.Sort(numbers)
		numbers = slices.Compact(numbers)
		if span.Count(l) != len(numbers) || !slices.Equal(span.All(l, 99), numbers) {
			t.Fatalf("Count or All of %v", l)
		}
	}
}
