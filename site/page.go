package site

import (
	"herald/api"
	"herald/field"
)

const (
	mostText = 4096 // bytes of an authority, of a path

	leastStatus    = 200
	greatestStatus = 599
	noContent      = 204
	resetContent   = 205
	notModified    = 304

	anything = "*" // the Vary of a page whose answer hangs on more than fields
)

// isWrong tells whether a page isn't valid.
func isWrong(p api.Page) bool {
	return !isText(p.Authority) || !isText(p.Path) || p.Path[0] != '/' || !isStatus(p.Status) || !areChoices(p.Choices, p.Vary)
}

// isText tells whether s may be an authority, or a path but for how it begins.
func isText(s string) bool {
	if len(s) < 1 || len(s) > mostText {
		return false
	}
	for i := range len(s) {
		if s[i] < '!' || s[i] > '~' {
			return false
		}
	}
	return true
}

// isStatus leaves out those by which a response never has a body.
func isStatus(n int) bool {
	switch n {
	case noContent, resetContent, notModified:
		return false
	}
	return leastStatus <= n && n <= greatestStatus
}

// areChoices tells whether a page may have these, with that Vary.
func areChoices(l []api.Choice, vary string) bool {
	switch {
	case len(l) < 1, len(l) > api.MaxChoices:
		return false
	case vary == "", vary == anything:
		// There is no field to choose by.
		return len(l) == 1 && l[0].Value == "" && isBody(l[0].Body)
	case !field.Name(vary):
		return false
	}
	for i, c := range l {
		if !field.Value(c.Value) || !isBody(c.Body) || placeOf(l[:i], c.Value) >= 0 {
			return false
		}
	}
	return true
}

func isBody(s string) bool { return len(s) <= api.MaxBody }
