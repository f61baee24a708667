package run_test

import (
	"fmt"
	"slices"
	"strings"
	"testing"

	"herald/api"
	"herald/lists"
	"herald/run"
	"herald/script"
)

// The document's numbers, written out.
const (
	moveAsk      = 1
	moveCancel   = 2
	moveServer   = 3
	moveClient   = 4
	moveToServer = 5
	moveToClient = 6
	moveTick     = 7
	movePut      = 8
	moveSet      = 9
	moveForge    = 10

	scriptError = api.Errno(260)

	mostBytes  = 65536
	mostLines  = 1024
	mostLine   = 4096
	mostTold   = 1048576
	mostRounds = 1000000000

	top     = 1<<31 - 1 // the greatest Streams, Window and List
	longest = 1<<63 - 1
)

// standard is the default, as a line tells it.
const standard = "4096 1 2147483647 65535 16384 2147483647"

// The lines of the examples' world that other worlds have others for.
const (
	serverLine = "server " + standard
	clientLine = "client " + standard
	confLine   = "conf 4 1000 10 4"
	pageA      = `page "x" "/a" 200 "" "" "A"`
	pageB      = `page "x" "/b" 200 "" "" "B"`
	ruleLine   = `rule "x" "/a" "x" "/b"`
	originLine = `origin "https://x"`
)

const (
	getA = `ask "GET" "https" "x" "/a" ""`
	getB = `ask "GET" "https" "x" "/b" ""`
)

// world is the lines of the examples' one.
func world() []string {
	return []string{"world", serverLine, clientLine, confLine, pageA, pageB, ruleLine, originLine, "end"}
}

// worldBut has others in the place of some of its lines: each old one with the new
// one, or several, behind it.
func worldBut(changes ...string) []string {
	l := world()
	for i := 0; i < len(changes); i += 2 {
		at := slices.Index(l, changes[i])
		if at < 0 {
			panic("there is no line " + changes[i])
		}
		l = slices.Replace(l, at, at+1, strings.Split(changes[i+1], "\n")...)
	}
	return l
}

// behind is a script of the examples' world and these lines.
func behind(lines ...string) []string { return append(world(), lines...) }

func many(n int, line string) []string { return slices.Repeat([]string{line}, n) }

// lined is lines as a text, each with its end.
func lined(lines ...string) string {
	if len(lines) == 0 {
		return ""
	}
	return strings.Join(lines, "\n") + "\n"
}

const mostShown = 500 // bytes of what an error tells

// shown is a text as an error tells it: a short one as it stands.
func shown(s string) string {
	if len(s) > mostShown {
		return lists.ShownText(s)
	}
	return "{" + strings.ReplaceAll(s, "\n", " / ") + "}"
}

// unlike is how two texts that were told differ; "": they don't.
func unlike(got, want string) string {
	if got == want {
		return ""
	}
	a, b := strings.Split(got, "\n"), strings.Split(want, "\n")
	i := 0
	for i < min(len(a), len(b))-1 && a[i] == b[i] {
		i++
	}
	return fmt.Sprintf("%d bytes, want %d; line %d: %s, want %s", len(got), len(want), i, shown(a[i]), shown(b[i]))
}

// hold holds what a text tells against the model, and to the promises: what it tells,
// and whether it is a script.
func hold(t *testing.T, text string) (string, bool) {
	t.Helper()
	got, e := run.Play(text)
	want, wantError := modelPlay(text)
	if wrong := unlike(got, want); wrong != "" || e != wantError {
		t.Fatalf("P27.1: Play(%s): %d, want %d; %s", shown(text), e, wantError, wrong)
	}
	if e != 0 && (got != "" || e != scriptError) {
		t.Fatalf("R2: Play(%s): %s, %d", shown(text), shown(got), e)
	}
	if again, e2 := run.Play(text); again != got || e2 != e {
		t.Fatalf("P27.4: Play(%s) again: %d, then %d; %s", shown(text), e, e2, unlike(again, got))
	}
	holdForm(t, text, got, e)
	if e == 0 {
		holdFirst(t, text, got)
	}
	return got, e == 0
}

// holdForm is P27.2.
func holdForm(t *testing.T, text, told string, e api.Errno) {
	t.Helper()
	l, wrong := script.Parse(text)
	if wrong != 0 {
		return
	}
	form, wrong := script.Print(l)
	if wrong != 0 {
		return
	}
	if other, e2 := run.Play(form); other != told || e2 != e {
		t.Fatalf("P27.2: Play(%s): %d, of its form %d; %s", shown(text), e, e2, unlike(other, told))
	}
}

// holdFirst is P27.3, of a script: of all its beginnings, or, if they are many, of
// some; TestFirstCommands takes all.
func holdFirst(t *testing.T, text, told string) {
	t.Helper()
	lines := strings.SplitAfter(text, "\n")
	begin := slices.IndexFunc(lines, func(s string) bool { return strings.TrimSuffix(s, "\n") == "end" }) + 1
	step := 1 + (len(lines)-begin)/8
	for n := begin; n < len(lines); n += step {
		first, e := run.Play(strings.Join(lines[:n], ""))
		if e != 0 || !strings.HasPrefix(told, first) {
			t.Fatalf("P27.3: the first %d lines of %s tell %s, %d; all tell %s", n, shown(text), shown(first), e, shown(told))
		}
		if !strings.HasSuffix(first, "\n") {
			t.Fatalf("P27.1: what the first %d lines of %s tell doesn't end with an end of line", n, shown(text))
		}
	}
}

// wantTold holds that a script tells just these lines.
func wantTold(t *testing.T, lines []string, want ...string) {
	t.Helper()
	text := lined(lines...)
	got, e := run.Play(text)
	if wrong := unlike(got, lined(want...)); e != 0 || wrong != "" {
		t.Errorf("P27.1: Play(%s): %d; %s", shown(text), e, wrong)
	}
	hold(t, text)
}

func wantRefused(t *testing.T, text string) {
	t.Helper()
	if got, e := run.Play(text); got != "" || e != scriptError {
		t.Errorf("P27.1: Play(%s): %s, %d, want %d", shown(text), shown(got), e, scriptError)
	}
	hold(t, text)
}
