package glob_test

import (
	"math/rand"
	"strings"
	"testing"

	"lighterman/glob"
)

func TestMay(t *testing.T) { // P20.1
	for _, p := range []string{"a", "*", "?", "transfer/*-?", "az09-/*?", strings.Repeat("*", glob.Most)} {
		if !glob.May(p) {
			t.Errorf("May(%q) is false", p)
		}
	}
	for _, p := range []string{"", strings.Repeat("a", glob.Most+1), "A", "a b", "[a]", "a.b", "a_", "é", "a\x00", "`", "{", ":", "+", ")", "@"} {
		if glob.May(p) || glob.Match(p, p) || glob.Plain(p) {
			t.Errorf("May(%q) is true", p)
		}
	}
}

func TestMatch(t *testing.T) { // P20.1
	for _, c := range []struct {
		pattern string
		yes, no []string
	}{
		{"transfer/*-?", []string{"transfer/channel-7", "transfer/-x", "transfer/a-b-\xff"}, []string{"transfer/channel-17", "transfer/channel", "transfer/channel-", "xtransfer/channel-7", ""}},
		{"*", []string{"", "a", "/\x00\xff", "**"}, nil},
		{"?", []string{"a", "\xff", "?", "*"}, []string{"", "ab", "é"}},
		{"a*b", []string{"ab", "aab", "abb", "a*b", "axbxb"}, []string{"", "a", "b", "aba", "ba", "Ab"}},
		{"*a*b*", []string{"ab", "xaxbx", "aab"}, []string{"ba", "a", "b", ""}},
		{"a?c", []string{"abc", "a?c"}, []string{"ac", "abbc", "ab"}},
		{"**?", []string{"a", "ab"}, []string{""}},
		{"a", []string{"a"}, []string{"", "aa", "b", "*"}},
		{"a*", []string{"a", "ab"}, []string{"", "ba"}},
		{"*ab", []string{"ab", "aab", "abab"}, []string{"aba", "b"}},
		{"*?*?*", []string{"ab", "abc"}, []string{"a", ""}},
	} {
		for _, s := range c.yes {
			if !glob.Match(c.pattern, s) {
				t.Errorf("%q does not match %q", c.pattern, s)
			}
		}
		for _, s := range c.no {
			if glob.Match(c.pattern, s) {
				t.Errorf("%q matches %q", c.pattern, s)
			}
		}
	}
}

// matches is the rule of the document, word by word.
func matches(pattern, s string) bool {
	if pattern == "" {
		return s == ""
	}
	if pattern[0] == '*' {
		return matches(pattern[1:], s) || s != "" && matches(pattern, s[1:])
	}
	return s != "" && (pattern[0] == '?' || pattern[0] == s[0]) && matches(pattern[1:], s[1:])
}

func text(r *rand.Rand, letters string, least, most int) string {
	b := make([]byte, least+r.Intn(most-least+1))
	for i := range b {
		b[i] = letters[r.Intn(len(letters))]
	}
	return string(b)
}

func TestMatchAsTheRule(t *testing.T) { // P20.1
	r := rand.New(rand.NewSource(20))
	for range 30000 {
		p, s := text(r, "ab*?", 1, 7), text(r, "abc", 0, 8)
		if glob.Match(p, s) != matches(p, s) {
			t.Fatalf("Match(%q, %q) is %t", p, s, glob.Match(p, s))
		}
	}
}

func TestMatchOfLongTexts(t *testing.T) { // P0.1
	p := strings.Repeat("*a", 19) + "*b"
	if glob.Match(p, strings.Repeat("a", 100000)) || !glob.Match(p, strings.Repeat("a", 100000)+"b") {
		t.Error("a long text")
	}
}

func TestPlain(t *testing.T) { // P20.1, P20.2
	for p, want := range map[string]bool{"a": true, "transfer/channel-7": true, "a*": false, "?": false, "a?b": false, "": false, "A": false} {
		if glob.Plain(p) != want {
			t.Errorf("Plain(%q) is not %t", p, want)
		}
		for _, s := range []string{"", "a", "b", "aa", "transfer/channel-7", "transfer/channel-77", "a*", "?"} {
			if want && glob.Match(p, s) != (p == s) {
				t.Errorf("Match(%q, %q) is %t", p, s, p != s)
			}
		}
	}
}
